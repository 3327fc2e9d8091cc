package raw

import (
	"math"
	"math/big"
	"regexp"
	"slices"
	"strings"
	"testing"

	"flail/api"
	"flail/ref"
)

// bad is the sign 65533 by its bytes, so that the tests hang on no other package's word for it.
const bad = "\xef\xbf\xbd"

// closers is what ends a name, put down one by one, so that the tests share no rule with the program.
const closers = "\t\n\f />"

// names is names of elements, and of what is none, without large letters.
var names = []string{"b", "style", "script", "title", "textarea", "h1", "x-y", "a:b", "a_b", "1", "-", "!", "?", "--", "a b", " ", "a ", "\n", "a/b", "/", "//", "a/", "a>b", ">", "a>", "<", "</", "</b", "</b>", "</b/", "a=''", "'", "\"", "&", "&lt;", "@", "[", "`", "{", "\x00", "a\x00", "\x7f", "\xff", "a\xff", "\xe2\x82", "\xe1", "\u00e9", "\u00c9", "\u212a", "\u017fcript", "\u20ac", bad, strings.Repeat("ab", 50)}

// clean is s with api.Bad in the place of each byte 0.
func clean(s string) string { return strings.ReplaceAll(s, "\x00", bad) }

// low is s with small letters in the places of the large ones, byte by byte.
func low(s string) string {
	bytes := []byte(s)
	for at, c := range bytes {
		if k := strings.IndexByte("ABCDEFGHIJKLMNOPQRSTUVWXYZ", c); k >= 0 {
			bytes[at] = "abcdefghijklmnopqrstuvwxyz"[k]
		}
	}
	return string(bytes)
}

// wantEnds is what the chapter asks of Ends.
func wantEnds(s string, at int, name string) bool {
	if name == "" || at < 0 || at > len(s) {
		return false
	}
	parts := []int{2, len(name), 1}
	var told []string
	rest := s[at:]
	for _, n := range parts {
		if len(rest) < n {
			return false
		}
		told = append(told, rest[:n])
		rest = rest[n:]
	}
	return told[0] == "</" && low(told[1]) == name && strings.Contains(closers, told[2])
}

// inside is at, or the place of s that it counts as.
func inside(s string, at int) int {
	switch {
	case at < 0:
		return 0
	case at > len(s):
		return len(s)
	}
	return at
}

// wantFind is what the chapter asks of Find: of all places, gone through from the last one on, the least.
func wantFind(s string, at int, name string) int {
	told := len(s)
	for place := len(s) - 1; place >= inside(s, at); place-- {
		if wantEnds(s, place, name) {
			told = place
		}
	}
	return told
}

// inWords is a name's end as one expression; of names of bytes below 128 alone.
func inWords(name string) *regexp.Regexp {
	told := "</"
	for _, c := range name {
		switch {
		case c >= 'a' && c <= 'z':
			told += "[" + string(c) + string(c-32) + "]"
		case c >= 'A' && c <= 'Z':
			// No text has it any more, once it is lowered.
			told += `[^\x00-\x{10ffff}]`
		default:
			told += regexp.QuoteMeta(string(c))
		}
	}
	return regexp.MustCompile(told + "[" + closers + "]")
}

// checkWords checks Find against the chapter's words.
func checkWords(t *testing.T, s string, at int, name string, words *regexp.Regexp) {
	t.Helper()
	want := len(s)
	if m := words.FindStringIndex(s[inside(s, at):]); m != nil && name != "" {
		want = inside(s, at) + m[0]
	}
	if got := Find(s, at, name); got != want {
		t.Errorf("Find(%q, %d, %q): %d, in words %d", short(s), at, short(name), got, want)
	}
}

// short is s, or so much of it as a failing test may tell.
func short(s string) string {
	if len(s) > 100 {
		return s[:100] + ".."
	}
	return s
}

// checkAt checks Ends and Find at one place of s.
func checkAt(t *testing.T, s string, at int, name string) {
	t.Helper()
	if got, want := Ends(s, at, name), wantEnds(s, at, name); got != want {
		t.Errorf("Ends(%q, %d, %q): %t", short(s), at, short(name), got)
	}
	if got, want := Find(s, at, name), wantFind(s, at, name); got != want {
		t.Errorf("Find(%q, %d, %q): %d, want %d", short(s), at, short(name), got, want)
	}
}

// checkAhead checks what follows of Find (P12.3): ahead of where it ends it ends nowhere.
func checkAhead(t *testing.T, s string, at int, name string) {
	t.Helper()
	from, end := inside(s, at), Find(s, at, name)
	if end < from || end > len(s) {
		t.Fatalf("Find(%q, %d, %q): %d, which is no place from there on", short(s), at, short(name), end)
	}
	for place := from; place < end; place++ {
		if Ends(s, place, name) {
			t.Errorf("Ends(%q, %d, %q), ahead of %d", short(s), place, short(name), end)
		}
	}
	if end != len(s) && !Ends(s, end, name) {
		t.Errorf("Find(%q, %d, %q): %d, where it doesn't end", short(s), at, short(name), end)
	}
	for _, place := range []int{from, from + (end-from)/2, end} {
		if again := Find(s, place, name); again != end {
			t.Errorf("Find(%q, %d, %q): %d, from %d on %d", short(s), place, short(name), again, at, end)
		}
	}
}

// farAway is places that no text has.
func farAway() []int {
	return []int{math.MinInt, math.MinInt + 1, math.MinInt + 2, math.MinInt32, -1 << 32, -1<<32 + 1, -33, 1 << 31, 1 << 32, 1<<32 + 1, math.MaxInt - 9, math.MaxInt - 3, math.MaxInt - 2, math.MaxInt - 1, math.MaxInt}
}

// check checks Ends and Find at each place of s, and beside them.
func check(t *testing.T, s, name string) {
	t.Helper()
	for at := -3; at <= len(s)+3; at++ {
		checkAt(t, s, at, name)
		checkAhead(t, s, at, name)
	}
	for _, at := range farAway() {
		checkAt(t, s, at, name)
		checkAhead(t, s, at, name)
	}
}

// aheads is what may stand ahead of a tag's end, and is nothing to it.
var aheads = []string{"", "a", "<", "</", "<//", "/", "</b", "</b ", "<b>", "</c>", "<!--", "\x00\xff", "\n"}

// checkEnds checks whether name ends at the beginning of s, whatever stands ahead of that.
func checkEnds(t *testing.T, s, name string, want bool) {
	t.Helper()
	for _, ahead := range aheads {
		if got := Ends(ahead+s, len(ahead), name); got != want {
			t.Errorf("Ends(%q, %d, %q): %t", short(ahead+s), len(ahead), short(name), got)
		}
		if got := Find(ahead+s, len(ahead), name); want && got != len(ahead) {
			t.Errorf("Find(%q, %d, %q): %d, though it ends there", short(ahead+s), len(ahead), short(name), got)
		}
	}
	check(t, s, name)
}

// eachText hands all texts of n of those parts to see.
func eachText(of []string, n int, see func(string)) {
	if n == 0 {
		see("")
		return
	}
	eachText(of, n-1, func(ahead string) {
		for _, part := range of {
			see(ahead + part)
		}
	})
}

// eachByte is each byte, as a text of its own.
func eachByte() []string {
	var told []string
	for c := range 256 {
		told = append(told, string([]byte{byte(c)}))
	}
	return told
}

// eachCase is a word in each mixture of large letters and small ones.
func eachCase(word string) []string {
	told := []string{""}
	for _, c := range strings.Split(word, "") {
		var longer []string
		for _, ahead := range told {
			longer = append(longer, ahead+strings.ToLower(c), ahead+strings.ToUpper(c))
		}
		told = longer
	}
	return told
}

func TestPlacesThatAreNotThere(t *testing.T) {
	for _, s := range []string{"", "<", "</", "</b", "</b>", "</b ", "</b></b>", "a</b>", "b>", "\x00"} {
		places := append(farAway(), -9, -4, -3, -2, -1, len(s), len(s)+1, len(s)+2, len(s)+3, len(s)+4, len(s)+9)
		for _, at := range places {
			for _, name := range []string{"", "b", ">", "</b>", "style"} {
				if Ends(s, at, name) {
					t.Errorf("Ends(%q, %d, %q)", s, at, name)
				}
				from := inside(s, at)
				if got, want := Find(s, at, name), wantFind(s, from, name); got != want {
					t.Errorf("Find(%q, %d, %q): %d, want %d", s, at, name, got, want)
				}
			}
		}
	}
}

func TestEmptyName(t *testing.T) {
	for _, s := range []string{"", "<", "</", "</>", "</ ", "</ >", "</\t", "</\n>", "</\f", "<//", "<//>", "</></>", "</</>", "a</>b", "</b>", "</\x00>", ">", " ", "/", "/>"} {
		checkEnds(t, s, "", false)
		for at := -2; at <= len(s)+2; at++ {
			if got := Find(s, at, ""); got != len(s) {
				t.Errorf("Find(%q, %d, \"\"): %d", s, at, got)
			}
		}
	}
	for _, c := range eachByte() {
		checkEnds(t, "</"+c, "", false)
		checkEnds(t, "</"+c+">", "", false)
	}
}

func TestEachName(t *testing.T) {
	for _, name := range names {
		checkEnds(t, "</"+name, name, false)
		for _, c := range eachByte() {
			want := strings.Contains(closers, c)
			for _, behind := range []string{"", ">", "a", "</" + name + ">"} {
				if got := Ends("</"+name+c+behind, 0, name); got != want {
					t.Errorf("Ends(%q, 0, %q): %t", short("</"+name+c+behind), short(name), got)
				}
			}
			checkAt(t, "</"+name+c+"</"+name+">", 0, name)
			checkAt(t, "a</"+name+c, 1, name)
		}
		for _, closer := range strings.Split(closers, "") {
			checkEnds(t, "</"+name+closer, name, true)
			checkEnds(t, "</"+name+closer+"a='</b>'>", name, true)
		}
	}
}

func TestCutShort(t *testing.T) {
	for _, name := range names {
		s := "</" + name
		for cut := range len(s) + 1 {
			checkEnds(t, s[:cut], name, false)
			// Whatever stands in the place of what is left out.
			for _, closer := range strings.Split(closers, "") {
				if got, want := Ends(s[:cut]+closer, 0, name), wantEnds(s[:cut]+closer, 0, name); got != want || got && cut < len(s)-1 {
					t.Errorf("Ends(%q, 0, %q): %t", short(s[:cut]+closer), short(name), got)
				}
			}
		}
		for from := 1; from < len(s); from++ {
			checkAt(t, s[from:]+">", 0, name)
			checkAt(t, s[:from]+"\x00"+s[from:]+">", 0, name)
		}
	}
	for _, s := range []string{"", "<", "</", "</s", "</st", "</sty", "</styl", "</style", "<>", "</>", "</s>", "</st>", "</sty>", "</styl>", "/style>", "style>", "<style>", "<style/>", "</tyle>", "</stye>", "< /style>", "</ style>", "<\x00/style>", "</\x00style>", "</sty\x00le>", "</sty le>", "<</style>", "<//style>", "<!style>", "<\\style>", "&lt;/style>"} {
		checkEnds(t, s, "style", false)
	}
}

func TestEachByteAtEachPlace(t *testing.T) {
	const s = "</b1>"
	for at := range len(s) {
		for _, c := range eachByte() {
			other := s[:at] + c + s[at+1:]
			want := strings.Contains([]string{"<", "/", "bB", "1", closers}[at], c)
			if got := Ends(other, 0, "b1"); got != want {
				t.Errorf("Ends(%q, 0, \"b1\"): %t", other, got)
			}
			check(t, other, "b1")
		}
	}
	// Each byte of the name against each one of the text.
	for _, c := range eachByte() {
		for _, d := range eachByte() {
			if got, want := Ends("</"+c+">", 0, d), low(c) == d; got != want {
				t.Errorf("Ends(%q, 0, %q): %t", "</"+c+">", d, got)
			}
			if got, want := Ends("</x"+c+" ", 0, "x"+d), low(c) == d; got != want {
				t.Errorf("Ends(%q, 0, %q): %t", "</x"+c+" ", "x"+d, got)
			}
		}
	}
}

func TestLettersOfTextAndName(t *testing.T) {
	mixtures := eachCase("style")
	if len(mixtures) != 32 {
		t.Fatal(len(mixtures))
	}
	for _, word := range mixtures {
		checkEnds(t, "</"+word+">", "style", true)
		checkEnds(t, "</"+word+" ", "style", true)
		checkEnds(t, "</"+word+"s>", "style", false)
		for _, name := range mixtures {
			// The name isn't lowered: what has a large letter is no text's end, not even of one that has it, too.
			checkEnds(t, "</"+word+">", name, name == "style")
			if got := Find("a</"+word+">", 0, name); name != "style" && got != 9 {
				t.Errorf("Find(%q, 0, %q): %d", "a</"+word+">", name, got)
			}
		}
	}
	for c := 'a'; c <= 'z'; c++ {
		small, large := string(c), string(c-32)
		checkEnds(t, "</"+small+">", small, true)
		checkEnds(t, "</"+large+">", small, true)
		checkEnds(t, "</"+small+">", large, false)
		checkEnds(t, "</"+large+">", large, false)
	}
	// Signs that are like letters elsewhere aren't here; nor have signs of more bytes small ones.
	for _, x := range []struct {
		s, name string
		want    bool
	}{{"</\u212a>", "k", false}, {"</k>", "\u212a", false}, {"</\u017fcript>", "script", false}, {"</\u0130>", "i", false}, {"</\uff22>", "b", false}, {"</\u00c9>", "\u00e9", false}, {"</\u00e9>", "\u00e9", true}, {"</\u00c9>", "\u00c9", true}, {"</\xc2>", "\xe2", false}, {"</\xe2>", "\xc2", false}, {"</@>", "`", false}, {"</[>", "{", false}, {"</H1>", "h1", true}, {"</H1>", "H1", false}, {"</X-Y/", "x-y", true}, {"</A B\t", "a b", true}, {"</</B>>", "</b>", true}, {"</</B>>", "</B>", false}, {"</\x11>", "1", false}, {"</B\xc0>", "b\xc0", true}} {
		checkEnds(t, x.s, x.name, x.want)
	}
}

func TestLongerNames(t *testing.T) {
	for _, name := range names {
		for _, more := range []string{"a", "1", "-", "\x00", "\xff", "=", "<", name} {
			longer := name + more
			checkEnds(t, "</"+longer, longer, false)
			checkEnds(t, "</"+longer+">", longer, true)
			if strings.HasPrefix(more, "/") || strings.HasPrefix(more, ">") || strings.HasPrefix(more, " ") || strings.HasPrefix(more, "\n") {
				continue
			}
			checkEnds(t, "</"+longer+">", name, false)
			checkEnds(t, "</"+name+">", longer, false)
			// The shorter one behind it is found.
			s := "</" + longer + "></" + name + ">"
			if got, want := Find(s, 0, name), len(longer)+3; !strings.Contains(longer, "</") && got != want {
				t.Errorf("Find(%q, 0, %q): %d, want %d", short(s), short(name), got, want)
			}
			check(t, s, name)
			check(t, s, longer)
		}
	}
	// What ends a name may be part of another one.
	for _, s := range []string{"</a b>", "</a/b>", "</a>b>", "</a\nb>"} {
		checkEnds(t, s, "a", true)
		checkEnds(t, s, s[2:5], true)
		checkEnds(t, s, "a ", false)
	}
}

func TestFind(t *testing.T) {
	for _, x := range []struct {
		s    string
		at   int
		name string
		want int
	}{
		{"a</b></Style >", 0, "style", 5},
		// None.
		{"", 0, "b", 0}, {"a", 0, "b", 1}, {"abc", 1, "b", 3}, {"<b>", 0, "b", 3}, {"</b", 0, "b", 3}, {"</", 0, "b", 2}, {"<", 0, "b", 1}, {"a</bb>c", 0, "b", 7}, {"</b</b", 0, "b", 6}, {"</c></d>", 0, "b", 8}, {"</ b>", 0, "b", 5}, {"</b>", 0, "B", 4}, {"</B>", 0, "B", 4},
		// One.
		{"</b>", 0, "b", 0}, {"a</b>", 0, "b", 1}, {"a</b>c", 0, "b", 1}, {"abc</B/", 0, "b", 3}, {"a\x00\xff</b\t", 0, "b", 3}, {"<b></b>", 0, "b", 3}, {"<b x='</b>'", 0, "b", 6}, {"<!--</b>-->", 0, "b", 4},
		// Two and more.
		{"</b></b>", 0, "b", 0}, {"</b></b>", 1, "b", 4}, {"a</b>c</b>d</b>", 0, "b", 1}, {"a</b>c</b>d</b>", 1, "b", 1}, {"a</b>c</b>d</b>", 2, "b", 6}, {"a</b>c</b>d</b>", 6, "b", 6}, {"a</b>c</b>d</b>", 7, "b", 11}, {"a</b>c</b>d</b>", 11, "b", 11}, {"a</b>c</b>d</b>", 12, "b", 15},
		// One right at a place, and one right ahead of it.
		{"xx</b>y", 2, "b", 2}, {"xx</b>y", 3, "b", 7}, {"xx</b>y", 4, "b", 7}, {"xx</b>y", 5, "b", 7}, {"xx</b>y", 6, "b", 7}, {"xx</b>y", 7, "b", 7}, {"xx</b>y", 1, "b", 2}, {"</b>y</b>", 4, "b", 5}, {"</b></b>", 4, "b", 4}, {"</b></b>", 5, "b", 8},
		// Other names ahead of it, and within.
		{"</a></c></bb></b>", 0, "b", 13}, {"</b ></script>", 0, "script", 5}, {"</scrip></scripts></SCRIPT\n>", 0, "script", 18}, {"</title></textarea>", 0, "textarea", 8}, {"</textarea></title>", 0, "textarea", 0}, {"</styl</style>", 0, "style", 6}, {"</style</style>", 0, "style", 7}, {"</style</style</style ", 0, "style", 14},
		// Brackets and strokes one behind the other.
		{"<</b>", 0, "b", 1}, {"</</b>", 0, "b", 2}, {"</</</b>", 0, "b", 4}, {"<</</b>", 0, "b", 3}, {"<//b></b>", 0, "b", 5}, {"</</", 0, "b", 4}, {"</<b></b>", 0, "b", 5}, {"</<</b>", 0, "b", 3}, {"<<</b>", 0, "b", 2}, {"</</b>", 1, "b", 2}, {"</</b>", 2, "b", 2}, {"</</b>", 3, "b", 6},
		// Names of which a mark is part.
		{"</</b>", 0, "</b", 0}, {"</</</b>", 0, "</b", 2}, {"</</b></b>", 0, "</b>", 10}, {"</</b>/", 0, "</b>", 0}, {"</</</ ", 0, "</", 2}, {"</</ </ ", 0, "</", 0}, {"</</ </ ", 1, "</", 8}, {"a<///", 0, "/", 1}, {"a<///", 2, "/", 5},
		// Places beside the text.
		{"</b>", -1, "b", 0}, {"a</b>", -1, "b", 1}, {"</b>", -9, "b", 0}, {"a</b>", math.MinInt, "b", 1}, {"</b>", math.MinInt, "b", 0}, {"</b>", 4, "b", 4}, {"</b>", 5, "b", 4}, {"</b>", 99, "b", 4}, {"</b>", math.MaxInt, "b", 4}, {"a</b>", math.MaxInt - 1, "b", 5}, {"", -1, "b", 0}, {"", 1, "b", 0}, {"", math.MaxInt, "b", 0}, {"", math.MinInt, "b", 0},
		// No name.
		{"</>", 0, "", 3}, {"a</ >", 0, "", 5}, {"<//>", 0, "", 4}, {"", 0, "", 0}, {"</b>", -1, "", 4}, {"</>", 9, "", 3},
	} {
		if got := Find(x.s, x.at, x.name); got != x.want {
			t.Errorf("Find(%q, %d, %q): %d, want %d", x.s, x.at, x.name, got, x.want)
		}
		check(t, x.s, x.name)
		checkWords(t, x.s, x.at, x.name, inWords(x.name))
	}
}

func TestFindEachOfMany(t *testing.T) {
	for _, name := range names {
		// Ends of that name, each with what is like one behind it.
		var places []int
		s := ""
		for _, part := range []string{"a", "", "</", "</" + name, "</" + name + "x>", "<" + name + ">", "\x00"} {
			s += part
			places = append(places, len(s))
			s += "</" + name + ">"
		}
		var found []int
		for at := Find(s, 0, name); at < len(s); at = Find(s, at+1, name) {
			found = append(found, at)
		}
		for _, place := range places {
			if !slices.Contains(found, place) {
				t.Errorf("%q: %q isn't found at %d", short(s), short(name), place)
			}
		}
		// Names of brackets and strokes stand there at other places, too.
		if !strings.ContainsAny(name, "</>") && !slices.Equal(found, places) {
			t.Errorf("%q: %q is found at %d, want %d", short(s), short(name), found, places)
		}
		if len(s) < 200 {
			check(t, s, name)
		}
	}
}

func TestAllShortTexts(t *testing.T) {
	words := inWords("b")
	bytes := eachByte()
	for _, ahead := range []string{"", "<", "</", "</b", "</B", "a</b"} {
		for n := range 3 {
			eachText(bytes, n, func(s string) {
				checkAt(t, ahead+s, 0, "b")
				checkAt(t, ahead+s, len(ahead), "b")
				checkWords(t, ahead+s+"</b>", 0, "b", words)
			})
		}
	}
	parts := []string{"<", "/", ">", "b", "B", " ", "</b"}
	for _, name := range []string{"b", "bb", "", "/", "</b", "B"} {
		words := inWords(name)
		for n := range 5 {
			eachText(parts, n, func(s string) {
				check(t, s, name)
				checkWords(t, s, 0, name, words)
			})
		}
		eachText(parts, 6, func(s string) { checkAt(t, s, 0, name) })
	}
	// All short names against all short texts.
	bits := []string{"<", "/", ">", "b", "B", "\xff"}
	for n := range 4 {
		eachText(bits, n, func(name string) {
			for m := range 4 {
				eachText(bits, m, func(s string) {
					checkAt(t, "</"+s, 0, name)
					checkAt(t, s+"/"+s, 1, name)
				})
			}
		})
	}
}

func TestPlacesOfMarks(t *testing.T) {
	for _, x := range []struct {
		s    string
		from int
		want []int
	}{{"", 0, nil}, {"a", 0, nil}, {"<", 0, nil}, {"/<", 0, nil}, {"</", 0, []int{0}}, {"</", 1, nil}, {"</", 2, nil}, {"a</b></", 0, []int{1, 5}}, {"a</b></", 1, []int{1, 5}}, {"a</b></", 2, []int{5}}, {"</</</", 0, []int{0, 2, 4}}, {"</</</", 1, []int{2, 4}}, {"<</<<//</", 0, []int{1, 4, 7}}} {
		all := marks(x.s, x.from)
		// What is ranged over again tells the same.
		for range 2 {
			if got := slices.Collect(all); !slices.Equal(got, x.want) {
				t.Errorf("%q from %d on: %d, want %d", x.s, x.from, got, x.want)
			}
			for place := range all {
				if place != x.want[0] {
					t.Errorf("%q from %d on: first %d", x.s, x.from, place)
				}
				break
			}
		}
	}
}

func TestText(t *testing.T) {
	for _, x := range []struct{ s, plain, refs string }{
		{"", "", ""}, {"a", "a", "a"}, {" a\r\nb\rc\t", " a\r\nb\rc\t", " a\r\nb\rc\t"},
		// The byte 0.
		{"\x00", bad, bad}, {"a\x00b", "a" + bad + "b", "a" + bad + "b"}, {"\x00\x00a\x00", bad + bad + "a" + bad, bad + bad + "a" + bad}, {"0", "0", "0"}, {bad, bad, bad},
		// Names with a semicolon and without.
		{"&amp;", "&amp;", "&"}, {"&amp", "&amp", "&"}, {"&ampx", "&ampx", "&x"}, {"&lt;b>", "&lt;b>", "<b>"}, {"a&ltb&gt", "a&ltb&gt", "a<b>"}, {"&notit;", "&notit;", "\u00acit;"}, {"&notin;", "&notin;", "\u2209"}, {"&NotEqualTilde;", "&NotEqualTilde;", "\u2242\u0338"}, {"&apos", "&apos", "&apos"}, {"&apos;", "&apos;", "'"}, {"&nbsp;&nbsp", "&nbsp;&nbsp", "\u00a0\u00a0"}, {"&NewLine;", "&NewLine;", "\n"},
		// It is no attribute.
		{"?a=b&copy=1", "?a=b&copy=1", "?a=b\u00a9=1"}, {"&copya", "&copya", "\u00a9a"}, {"&copy1", "&copy1", "\u00a91"}, {"&lt=&lt9", "&lt=&lt9", "<=<9"},
		// Numbers.
		{"&#65;", "&#65;", "A"}, {"&#65", "&#65", "A"}, {"&#x4a;&#X4A", "&#x4a;&#X4A", "JJ"}, {"&#128;", "&#128;", "\u20ac"}, {"&#13;&#10;", "&#13;&#10;", "\r\n"}, {"&#x1F600;", "&#x1F600;", "\U0001f600"},
		// Numbers that mean api.Bad.
		{"&#0;", "&#0;", bad}, {"&#x0", "&#x0", bad}, {"&#00;a", "&#00;a", bad + "a"}, {"&#xD800;", "&#xD800;", bad}, {"&#1114112;", "&#1114112;", bad}, {"&#18446744073709551616;", "&#18446744073709551616;", bad}, {"&#xFFFD;", "&#xFFFD;", bad},
		// Ampersands that begin nothing.
		{"&", "&", "&"}, {"&&", "&&", "&&"}, {"a & b", "a & b", "a & b"}, {"&;", "&;", "&;"}, {"&#;", "&#;", "&#;"}, {"&#x;", "&#x;", "&#x;"}, {"&nosuch;", "&nosuch;", "&nosuch;"}, {"&Amp;", "&Amp;", "&Amp;"},
		// What is told isn't read again.
		{"&amp;lt;", "&amp;lt;", "&lt;"}, {"&#38;#65;", "&#38;#65;", "&#65;"}, {"&&amp;amp;", "&&amp;amp;", "&&amp;"},
		// The byte 0 beside references, and within what would be one.
		{"a\x00&amp;", "a" + bad + "&amp;", "a" + bad + "&"}, {"&amp;\x00", "&amp;" + bad, "&" + bad}, {"&amp\x00", "&amp" + bad, "&" + bad}, {"&\x00amp;", "&" + bad + "amp;", "&" + bad + "amp;"}, {"&am\x00p;", "&am" + bad + "p;", "&am" + bad + "p;"}, {"&#\x0065;", "&#" + bad + "65;", "&#" + bad + "65;"}, {"&#6\x005;", "&#6" + bad + "5;", "\x06" + bad + "5;"}, {"\x00&#0;\x00&#0", bad + "&#0;" + bad + "&#0", bad + bad + bad + bad}, {"&copy\x00=\x00", "&copy" + bad + "=" + bad, "\u00a9" + bad + "=" + bad}, {"&#x\x00;", "&#x" + bad + ";", "&#x" + bad + ";"},
		// What marks up is text here, and bytes that are no signs stay.
		{"<b x='&lt;'></b><!--&gt;--><!doctype>", "<b x='&lt;'></b><!--&gt;--><!doctype>", "<b x='<'></b><!-->--><!doctype>"}, {"</title>&lt;/title>", "</title>&lt;/title>", "</title></title>"}, {"\xff&lt;\xe2\x82", "\xff&lt;\xe2\x82", "\xff<\xe2\x82"}, {"&\xff\x00", "&\xff" + bad, "&\xff" + bad}, {"\u00c9\u20ac", "\u00c9\u20ac", "\u00c9\u20ac"}, {"ABC", "ABC", "ABC"},
	} {
		if got := Text(x.s, false); got != x.plain {
			t.Errorf("Text(%q, false): %q, want %q", x.s, got, x.plain)
		}
		if got := Text(x.s, true); got != x.refs {
			t.Errorf("Text(%q, true): %q, want %q", x.s, got, x.refs)
		}
	}
}

// checkText checks Text of s by the chapters that it is made of.
func checkText(t *testing.T, s string) {
	t.Helper()
	if got, want := Text(s, false), clean(s); got != want {
		t.Errorf("Text(%q, false): %q, want %q", short(s), short(got), short(want))
	}
	if got, want := Text(s, true), clean(ref.Decode(s, false)); got != want {
		t.Errorf("Text(%q, true): %q, want %q", short(s), short(got), short(want))
	}
	for _, refs := range []bool{false, true} {
		if got := Text(s, refs); strings.Contains(got, "\x00") || len(got) > 3*len(s) {
			t.Errorf("Text(%q, %t): %q", short(s), refs, short(got))
		}
	}
	if !strings.Contains(s, "&") && Text(s, true) != Text(s, false) {
		t.Errorf("Text(%q, true): %q, though it has no ampersand", short(s), short(Text(s, true)))
	}
}

func TestTextOfParts(t *testing.T) {
	// Each of these says the same, whatever stands beside it.
	parts := map[string]string{"a": "a", "\x00": bad, "&amp;": "&", "&#0;": bad, "&#x41;": "A", "& ": "& ", "&lt;": "<", "\xff": "\xff", ";": ";"}
	var all []string
	for part := range parts {
		all = append(all, part)
	}
	slices.Sort(all)
	for n := range 5 {
		eachText([]string{"0", "1", "2", "3", "4", "5", "6", "7", "8"}[:len(all)], n, func(digits string) {
			s, plain, refs := "", "", ""
			for _, digit := range digits {
				part := all[digit-'0']
				s, plain, refs = s+part, plain+clean(part), refs+parts[part]
			}
			if got := Text(s, false); got != plain {
				t.Errorf("Text(%q, false): %q, want %q", s, got, plain)
			}
			if got := Text(s, true); got != refs {
				t.Errorf("Text(%q, true): %q, want %q", s, got, refs)
			}
		})
	}
}

func TestTextOfAllShortTexts(t *testing.T) {
	bytes := eachByte()
	for n := range 3 {
		eachText(bytes, n, func(s string) {
			checkText(t, s)
			checkText(t, "&"+s)
			checkText(t, "&lt"+s)
			checkText(t, "&#65"+s)
		})
	}
	for n := range 5 {
		eachText([]string{"&", ";", "#", "x", "=", "amp", "not", "in", "0", "65", "\x00", "\xff"}, n, func(s string) { checkText(t, s) })
	}
}

func TestTextOfEachName(t *testing.T) {
	for _, line := range strings.Split(strings.TrimSpace(api.Names), "\n") {
		fields := strings.Fields(line)
		want := ""
		for _, digits := range fields[1:] {
			n, _ := new(big.Int).SetString(digits, 16)
			want += string(rune(n.Int64()))
		}
		name := "&" + fields[0]
		for _, behind := range []string{"", " ", "\x00", "&"} {
			if got := Text(name+behind, true); got != want+clean(behind) {
				t.Errorf("Text(%q, true): %q, want %q", name+behind, got, want+clean(behind))
			}
			if got := Text(name+behind, false); got != name+clean(behind) {
				t.Errorf("Text(%q, false): %q", name+behind, got)
			}
		}
	}
}

func TestLongTexts(t *testing.T) {
	for _, part := range []string{"a", "<", "/", "</", "</b", "</bb>", "</c>", "<b>", "</ b>", "\x00", "\xff", "</B\x00", "&amp;", "&", "&#0;", "&#65"} {
		s := strings.Repeat(part, 20000)
		if got := Find(s, 0, "b"); got != len(s) {
			t.Errorf("Find(%q, 0, \"b\"): %d", short(s), got)
		}
		for _, end := range []string{"</b>", "</B ", "</b/", "</b\n"} {
			for _, at := range []int{math.MinInt, -1, 0, 1, len(s) - 1, len(s)} {
				// A mark that goes on into the end is none of its own.
				if got := Find(s+end+s+end, at, "b"); got != len(s) {
					t.Errorf("Find of %q, %d times, and %q, from %d on: %d", part, 20000, end, at, got)
				}
			}
			if got := Find(s+end+s+end, len(s)+1, "b"); got != 2*len(s)+4 {
				t.Errorf("Find of %q, %d times, and %q, twice: %d", part, 20000, end, got)
			}
			checkAhead(t, s+end, 0, "b")
		}
		checkText(t, s)
		checkText(t, s+"\x00"+s)
	}
	long := strings.Repeat("ab", 1<<20)
	for _, x := range []struct {
		s    string
		want bool
	}{{"</" + long + ">", true}, {"</" + strings.ToUpper(long) + "\t", true}, {"</" + long, false}, {"</" + long + "a>", false}, {"</" + long[1:] + ">", false}, {"</" + long[2:] + "ac>", false}} {
		if got := Ends(x.s, 0, long); got != x.want {
			t.Errorf("Ends(%q, 0, %q): %t", short(x.s), short(long), got)
		}
	}
	if got, want := Text(strings.Repeat("&#0;\x00", 1<<20), true), strings.Repeat(bad+bad, 1<<20); got != want {
		t.Errorf("%q", short(got))
	}
}

func TestTheSameEachTime(t *testing.T) {
	for range 1000 {
		for _, s := range []string{"</b>", "a</b></b>", "</c></B >", "</b", ""} {
			for at := -1; at <= len(s)+1; at++ {
				checkAt(t, s, at, "b")
				checkAt(t, s, at, "c")
			}
		}
		checkText(t, "a\x00&amp;&#0;")
	}
}

func FuzzRaw(f *testing.F) {
	for _, s := range []string{"", "a</b></Style >", "</b></b>", "</</b>", "</b", "</>", "</ >", "a\x00&amp;", "&#0;&lt", "</\u212a>", "</</</b>", "<//"} {
		for _, name := range []string{"", "b", "style", "B", "</b", "k"} {
			f.Add(s, 0, name)
			f.Add(s, 1, name)
		}
	}
	f.Fuzz(func(t *testing.T, s string, at int, name string) {
		checkAt(t, s, at, name)
		checkText(t, s)
		check(t, s[:min(len(s), 200)], name)
		check(t, "</"+low(name)[:min(len(name), 60)]+">"+s[:min(len(s), 60)], name)
		if !strings.ContainsFunc(name, func(c rune) bool { return c >= 128 }) {
			checkWords(t, s, at, name, inWords(name))
		}
	})
}
