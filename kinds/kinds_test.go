package kinds

import (
	"slices"
	"strconv"
	"strings"
	"testing"
)

// kind is what the four calls tell of a name.
type kind struct {
	hides, keeps, void bool
	lines              int
}

// The kinds that there are, beside the one of which nothing is told.
var (
	none     = kind{}
	hidden   = kind{hides: true}
	kept     = kind{keeps: true}
	keptTwo  = kind{keeps: true, lines: 2}
	two      = kind{lines: 2}
	one      = kind{lines: 1}
	void     = kind{void: true}
	voidLine = kind{void: true, lines: 1}
)

// listed is each name that the chapter lists, once, with all that it lists of it, so that the tests share no list with the program.
var listed = []struct {
	name string
	kind kind
}{
	{"address", one}, {"area", void}, {"article", one}, {"aside", one}, {"base", void}, {"blockquote", two}, {"body", one}, {"br", void},
	{"center", one}, {"col", void}, {"dd", one}, {"details", one}, {"dialog", one}, {"dir", one}, {"div", one}, {"dl", one}, {"dt", one},
	{"embed", void}, {"fieldset", one}, {"figcaption", one}, {"figure", one}, {"footer", one}, {"form", one},
	{"h1", two}, {"h2", two}, {"h3", two}, {"h4", two}, {"h5", two}, {"h6", two}, {"head", hidden}, {"header", one}, {"hgroup", one}, {"hr", voidLine}, {"html", one},
	{"iframe", hidden}, {"img", void}, {"input", void}, {"legend", one}, {"li", one}, {"link", void}, {"listing", keptTwo},
	{"main", one}, {"menu", one}, {"meta", void}, {"nav", one}, {"noembed", hidden}, {"noframes", hidden}, {"noscript", hidden}, {"ol", two}, {"option", one},
	{"p", two}, {"plaintext", keptTwo}, {"pre", keptTwo}, {"script", hidden}, {"search", one}, {"section", one}, {"source", void}, {"style", hidden}, {"summary", one},
	{"table", two}, {"template", hidden}, {"textarea", kept}, {"title", hidden}, {"tr", one}, {"track", void}, {"ul", two}, {"wbr", void}, {"xmp", keptTwo},
}

// others is names of tags that the chapter doesn't list.
const others = "a abbr acronym applet audio b basefont bdi bdo bgsound big blink button canvas caption cite code colgroup command content data datalist del dfn em element font frame frameset h0 h7 h8 h9 h10 h11 i image ins isindex kbd keygen label map mark marquee math menuitem meter multicol nextid nobr noindex object optgroup output param picture portal progress q rb rbc rp rt rtc ruby s samp select shadow slot small spacer span strike strong sub sup svg tbody td text tfoot th thead time tt u var video x"

// eachSmall is each byte that a listed name may have.
const eachSmall = "abcdefghijklmnopqrstuvwxyz0123456789"

// wanted is what the chapter asks of a name.
func wanted(name string) kind {
	for _, x := range listed {
		if x.name == name {
			return x.kind
		}
	}
	return none
}

// told is what the calls tell of a name.
func told(name string) kind { return kind{Hides(name), Keeps(name), Void(name), Lines(name)} }

// short is a name, or so much of it as a failing test may tell.
func short(name string) string {
	if len(name) > 100 {
		return strconv.Quote(name[:100]) + ".."
	}
	return strconv.Quote(name)
}

// check holds what the calls tell of a name against what the chapter asks of it.
func check(t *testing.T, name string) {
	t.Helper()
	if got, want := told(name), wanted(name); got != want {
		t.Errorf("%s: %+v, want %+v", short(name), got, want)
	}
}

// checkNone is check, of a text that is no listed name.
func checkNone(t *testing.T, name string) {
	t.Helper()
	if got := told(name); got != none {
		t.Errorf("%s: %+v, want nothing", short(name), got)
	}
}

// eachByte hands each byte, as a text of its own, to see.
func eachByte(see func(c string)) {
	for c := range 256 {
		see(string([]byte{byte(c)}))
	}
}

// eachText hands all texts of n of those bytes to see.
func eachText(of string, n int, see func(string)) {
	if n == 0 {
		see("")
		return
	}
	eachText(of, n-1, func(ahead string) {
		for k := range len(of) {
			see(ahead + of[k:k+1])
		}
	})
}

// eachCase is a word in each mixture of large letters and small ones, each once; the small one is the first.
func eachCase(word string) []string {
	mixed := []string{""}
	for _, c := range strings.Split(word, "") {
		var longer []string
		for _, ahead := range mixed {
			longer = append(longer, ahead+c)
		}
		if large := strings.ToUpper(c); large != c {
			for _, ahead := range mixed {
				longer = append(longer, ahead+large)
			}
		}
		mixed = longer
	}
	return mixed
}

// those is the listed names that tell is true of, in their order.
func those(tell func(kind) bool) string {
	var names []string
	for _, x := range listed {
		if tell(x.kind) {
			names = append(names, x.name)
		}
	}
	return strings.Join(names, " ")
}

// TestTheTestsOwnList holds the list above against the chapter's five, as these stand there.
func TestTheTestsOwnList(t *testing.T) {
	for _, x := range []struct {
		of   string
		tell func(kind) bool
		want string
	}{
		{"Hides", func(k kind) bool { return k.hides }, "head, iframe, noembed, noframes, noscript, script, style, template, title"},
		{"Keeps", func(k kind) bool { return k.keeps }, "listing, plaintext, pre, textarea, xmp"},
		{"Void", func(k kind) bool { return k.void }, "area, base, br, col, embed, hr, img, input, link, meta, source, track, wbr"},
		{"Lines, 2", func(k kind) bool { return k.lines == 2 }, "blockquote, h1, h2, h3, h4, h5, h6, listing, ol, p, plaintext, pre, table, ul, xmp"},
		{"Lines, 1", func(k kind) bool { return k.lines == 1 }, "address, article, aside, body, center, dd, details, dialog, dir, div, dl, dt, fieldset, figcaption, figure, footer, form, header, hgroup, hr, html, legend, li, main, menu, nav, option, search, section, summary, tr"},
	} {
		if got, want := those(x.tell), strings.ReplaceAll(x.want, ", ", " "); got != want {
			t.Errorf("%s: %s, want %s", x.of, got, want)
		}
	}
	for k, x := range listed {
		if k > 0 && listed[k-1].name >= x.name || x.kind == none {
			t.Errorf("%s: %+v", x.name, x.kind)
		}
	}
	for _, name := range strings.Fields(others) {
		if wanted(name) != none {
			t.Errorf("%s is listed", name)
		}
	}
}

func TestEachListedName(t *testing.T) {
	for _, x := range listed {
		if got := Hides(x.name); got != x.kind.hides {
			t.Errorf("Hides(%q): %t", x.name, got)
		}
		if got := Keeps(x.name); got != x.kind.keeps {
			t.Errorf("Keeps(%q): %t", x.name, got)
		}
		if got := Void(x.name); got != x.kind.void {
			t.Errorf("Void(%q): %t", x.name, got)
		}
		if got := Lines(x.name); got != x.kind.lines {
			t.Errorf("Lines(%q): %d, want %d", x.name, got, x.kind.lines)
		}
	}
}

func TestExamples(t *testing.T) {
	for _, x := range []struct {
		name string
		want int
	}{{"p", 2}, {"li", 1}, {"b", 0}} {
		if got := Lines(x.name); got != x.want {
			t.Errorf("Lines(%q): %d, want %d", x.name, got, x.want)
		}
	}
	if !Hides("script") {
		t.Error("script isn't hidden")
	}
}

func TestWhatHidesNeitherKeepsNorMakesLines(t *testing.T) {
	hides := 0
	see := func(name string) {
		if !Hides(name) {
			return
		}
		hides++
		if Keeps(name) || Lines(name) != 0 {
			t.Errorf("%q hides, and: %+v", name, told(name))
		}
	}
	for _, x := range listed {
		see(x.name)
	}
	if hides != 9 {
		t.Errorf("%d names hide", hides)
	}
	for _, name := range strings.Fields(others) {
		see(name)
	}
	if hides != 9 {
		t.Errorf("%d names hide, with others", hides)
	}
}

func TestLargeLetters(t *testing.T) {
	for _, x := range listed {
		mixed := eachCase(x.name)
		if mixed[0] != x.name || mixed[len(mixed)-1] != strings.ToUpper(x.name) {
			t.Fatal(mixed)
		}
		for _, name := range mixed[1:] {
			checkNone(t, name)
		}
	}
}

func TestOneByteMoreOrLess(t *testing.T) {
	for _, x := range listed {
		name := x.name
		// Less: such a text may be a listed name itself, as col is, less a byte.
		check(t, name[1:])
		check(t, name[:len(name)-1])
		for n := range len(name) {
			check(t, name[:n])
			check(t, name[n:])
			check(t, name[:n]+name[n+1:])
		}
		// More, at each place, and another one in each place.
		eachByte(func(c string) {
			check(t, c+name)
			check(t, name+c)
			check(t, c+name+c)
			for n := range len(name) {
				check(t, name[:n]+c+name[n:])
				check(t, name[:n]+c+name[n+1:])
			}
		})
		for _, beside := range []string{" ", "\t", "\n", "\f", "\r", "/", "<", ">", "</", "-", "=", "'", `"`, "&", ";", ",", ".", "|", ":", "!", "?", "\x00", "\xff", "\xc2\xa0", "\xef\xbb\xbf", "\xef\xbf\xbd"} {
			checkNone(t, beside+name)
			checkNone(t, name+beside)
			checkNone(t, beside+name+beside)
			checkNone(t, name+beside+"x=1")
		}
	}
	for _, x := range []struct {
		name string
		want kind
	}{{"ol", two}, {"br", void}, {"ul", two}, {"", none}, {"h", none}, {"li", one}, {"lin", none}, {"heade", none}} {
		if got := told(x.name); got != x.want {
			t.Errorf("%q: %+v, want %+v", x.name, got, x.want)
		}
	}
}

func TestBytesInAnotherOrder(t *testing.T) {
	for _, x := range listed {
		for n := range len(x.name) {
			for k := range n {
				b := []byte(x.name)
				b[n], b[k] = b[k], b[n]
				check(t, string(b))
			}
			check(t, x.name[n:]+x.name[:n])
		}
		b := []byte(x.name)
		slices.Reverse(b)
		check(t, string(b))
	}
}

func TestNamesBesideNames(t *testing.T) {
	for _, x := range listed {
		for _, y := range listed {
			// No listed name is made of two: with nothing between, too.
			for _, between := range []string{"", "/", " ", "\t", "\n", "\f", "\r", " / ", "-", "_", ",", ", ", ";", "|", ".", ":", "\x00", "><", "></", "\xff"} {
				checkNone(t, x.name+between+y.name)
			}
			checkNone(t, "<"+x.name+"><"+y.name+">")
			checkNone(t, x.name+y.name+x.name)
			// A part of the one, and a part of the other.
			for n := range len(x.name) {
				check(t, x.name[:n]+y.name)
				check(t, y.name+x.name[n+1:])
				if n < len(y.name) {
					check(t, x.name[:n]+y.name[n:])
				}
			}
		}
		checkNone(t, x.name+x.name)
		checkNone(t, strings.Repeat(x.name+" ", 3))
		for _, name := range strings.Fields(others) {
			checkNone(t, x.name+" "+name)
			checkNone(t, name+"/"+x.name)
			check(t, name+x.name)
			check(t, x.name+name)
		}
	}
	for _, of := range []func(kind) bool{func(k kind) bool { return k.hides }, func(k kind) bool { return k.keeps }, func(k kind) bool { return k.void }, func(k kind) bool { return k.lines == 2 }, func(k kind) bool { return k.lines == 1 }} {
		for _, between := range []string{"", " ", ",", ", ", "\n", "|", "\x00"} {
			checkNone(t, strings.ReplaceAll(those(of), " ", between))
		}
	}
}

func TestNamesThatAreNotListed(t *testing.T) {
	for _, name := range strings.Fields(others) {
		checkNone(t, name)
		checkNone(t, strings.ToUpper(name))
		checkNone(t, name+"\x00")
		checkNone(t, "/"+name)
	}
	for _, name := range []string{"", " ", "\x00", "0", "1", "2", "-1", "true", "false", "any", "any other", "hides", "keeps", "lines", "void", "html:p", "p:p", "#text", "!doctype", "!--", "?xml", "h", "h01", "h1-6", "h1..h6", "h[1-6]", "h-1", "H1", "h\xc2\xb9", "no", "noembed noframes", "*", ".", "^p$", "p*", "%", "\\p"} {
		checkNone(t, name)
	}
}

func TestBytesThatAreNoSigns(t *testing.T) {
	for _, odd := range []string{"\x00", "\x00\x00", "\x80", "\xbf", "\xc0", "\xc2", "\xe2\x82", "\xed\xa0\x80", "\xf0\x9f\x98", "\xf4\x90\x80\x80", "\xf5", "\xfe", "\xff", "\xff\xff", "\xc0\x80", "\xef\xbf\xbd", "\xe2\x80\x8b", "\xcc\x81"} {
		checkNone(t, odd)
		for _, x := range listed {
			for n := range len(x.name) + 1 {
				checkNone(t, x.name[:n]+odd+x.name[n:])
			}
			for n := range len(x.name) {
				checkNone(t, x.name[:n]+odd+x.name[n+1:])
			}
		}
	}
	// Each byte of a name with its highest bit, and as two bytes that say the same in an overlong way.
	for _, x := range listed {
		for n := range len(x.name) {
			c := x.name[n]
			checkNone(t, x.name[:n]+string([]byte{c | 128})+x.name[n+1:])
			checkNone(t, x.name[:n]+string([]byte{192 | c>>6, 128 | c&63})+x.name[n+1:])
			checkNone(t, x.name[:n]+string([]byte{0, c})+x.name[n+1:])
		}
	}
	// Signs that are letters below 128, too, where letters are held without regard to their size, or their width.
	for _, x := range listed {
		for _, like := range [][2]string{{"s", "\u017f"}, {"k", "\u212a"}, {"i", "\u0131"}, {"i", "\u0130"}, {"a", "\u00e4"}, {"p", "\u0440"}, {"a", "\uff41"}, {"h1", "h\u00b9"}, {"h1", "h\uff11"}, {"h2", "h\u00b2"}, {"fi", "\ufb01"}, {"st", "\ufb06"}} {
			if strings.Contains(x.name, like[0]) {
				checkNone(t, strings.ReplaceAll(x.name, like[0], like[1]))
				checkNone(t, strings.Replace(x.name, like[0], like[1], 1))
			}
		}
	}
}

func TestAllShortTexts(t *testing.T) {
	var all []byte
	for c := range 256 {
		all = append(all, byte(c))
	}
	tell := func(of string, n int) {
		var found []string
		eachText(of, n, func(name string) {
			if got := told(name); got != none {
				found = append(found, name)
				if got != wanted(name) {
					t.Errorf("%q: %+v, want %+v", name, got, wanted(name))
				}
			}
		})
		want := 0
		for _, x := range listed {
			if len(x.name) == n {
				want++
			}
		}
		if len(found) != want {
			t.Errorf("of %d bytes: %q, want %d", n, found, want)
		}
	}
	for n := range 3 {
		tell(string(all), n)
	}
	for n := range 5 {
		tell(eachSmall, n)
	}
}

func TestLongTexts(t *testing.T) {
	const n = 1 << 20
	for _, part := range []string{"a", "p", " ", "\x00", "\xff", "/", "h1", "<p>", "\u00e4"} {
		checkNone(t, strings.Repeat(part, n))
	}
	for _, x := range listed {
		checkNone(t, strings.Repeat(x.name, 1<<12))
		checkNone(t, strings.Repeat(x.name+" ", 1<<12))
		for _, long := range []string{strings.Repeat("a", n), strings.Repeat("\x00", n), strings.Repeat(" ", n)} {
			checkNone(t, x.name+long)
			checkNone(t, long+x.name)
		}
		// As long as a number of a few bits can't tell: held by that length alone it would be the name.
		for _, more := range []int{1 << 8, 1 << 16} {
			checkNone(t, x.name+strings.Repeat("\x00", more))
			checkNone(t, strings.Repeat(x.name, more/len(x.name)+1)[:more]+x.name)
		}
	}
}

func TestTheSameEachTime(t *testing.T) {
	// In their order and back, of memory of its own each time, and amid others.
	for n := range 200 {
		for k := range listed {
			x := listed[k]
			if n%2 == 1 {
				x = listed[len(listed)-1-k]
			}
			if got := told(strings.Clone(x.name)); got != x.kind {
				t.Errorf("%q: %+v, want %+v", x.name, got, x.kind)
			}
			whole := "<" + x.name + " " + x.name + ">"
			if got := told(whole[1 : 1+len(x.name)]); got != x.kind {
				t.Errorf("%q, of a longer text: %+v, want %+v", x.name, got, x.kind)
			}
			checkNone(t, whole)
			checkNone(t, "b")
		}
	}
}

func FuzzKinds(f *testing.F) {
	for _, x := range listed {
		f.Add(x.name)
	}
	for _, name := range append(strings.Fields(others), "", "P", "p ", "p\x00", "\xff", "ppre", "h7") {
		f.Add(name)
	}
	f.Fuzz(func(t *testing.T, name string) {
		check(t, name)
		checkNone(t, name+" ")
		checkNone(t, "\x00"+name)
		for _, x := range listed {
			check(t, name+x.name)
			check(t, x.name+name)
		}
	})
}
