package doctype

import (
	"math"
	"regexp"
	"slices"
	"strconv"
	"strings"
	"testing"

	"flail/api"
)

// bad is the sign 65533 by its bytes, so that the tests hang on no other package's word for it.
const bad = "\xef\xbf\xbd"

// spaces is all of them, put down one by one, so that the tests share no rule with the program.
const spaces = "\t\n\f "

// read is what Read tells, so that two of them can be held against each other.
type read struct {
	t    api.Token
	next int
	ok   bool
}

// none is what Read tells where no doctype begins.
func none(at int) read { return read{next: at} }

// told is what Read tells of a doctype with that text, which ends there.
func told(text string, next int) read { return read{api.Token{Kind: 4, Text: text}, next, true} }

// same tells whether a and b are alike; an empty list is one like none.
func same(a, b read) bool {
	return a.t.Kind == b.t.Kind && a.t.Name == b.t.Name && a.t.Text == b.t.Text && slices.Equal(a.t.Attrs, b.t.Attrs) && a.t.Self == b.t.Self && a.next == b.next && a.ok == b.ok
}

// gotRead is what Read tells.
func gotRead(s string, at int) read {
	t, next, ok := Read(s, at)
	return read{t, next, ok}
}

// clean is s with api.Bad in the place of each byte 0.
func clean(s string) string { return strings.ReplaceAll(s, "\x00", bad) }

// low is s with small letters in the places of the large ones, byte by byte.
func low(s string) string {
	bytes := []byte(s)
	for at, c := range bytes {
		if k := strings.IndexByte("ABCDEFGHIJKLMNOPQRSTUVWXYZ", c); k >= 0 {
			bytes[at] = "abcdefghijklmnopqrstuvwxyz"[k]
		}
	}
	return string(bytes)
}

// wantBegins is what the chapter asks of Begins.
func wantBegins(s string, at int) bool {
	return at >= 0 && at < len(s) && len(s[at:]) >= 9 && low(s[at:at+9]) == "<!doctype"
}

// wantRead is what the chapter asks of Read.
func wantRead(s string, at int) read {
	if !wantBegins(s, at) {
		return none(at)
	}
	for end := at + 9; end < len(s); end++ {
		if s[end] == '>' {
			return told(clean(s[at+9:end]), end+1)
		}
	}
	return told(clean(s[at+9:]), len(s))
}

// What was read last of a doctype, in the order in which it stands there.
const (
	aheadOfName = iota
	inName
	behindName
	inWord
	behindPublicWord
	inPublic
	behindPublic
	behindSystemWord
	inSystem
	behindSystem
	more
	astray
)

// steps goes through a doctype byte by byte, keeping just where it is, as one does who can't look ahead.
type steps struct {
	at                   int
	word                 string
	quote                byte
	name, public, system []byte
	doc                  Doc
}

// step reads one byte.
func (p *steps) step(c byte) {
	if strings.IndexByte(spaces, c) >= 0 && p.at != inPublic && p.at != inSystem {
		p.space()
		return
	}
	switch p.at {
	case aheadOfName, inName:
		p.at = inName
		p.doc.HasName = true
		p.name = append(p.name, c)
	case behindName, inWord:
		p.letter(low(string([]byte{c})))
	case behindPublicWord:
		p.open(c, inPublic)
	case behindPublic, behindSystemWord:
		p.open(c, inSystem)
	case inPublic:
		if c == p.quote {
			p.at = behindPublic
		} else {
			p.public = append(p.public, c)
		}
	case inSystem:
		if c == p.quote {
			p.at = behindSystem
		} else {
			p.system = append(p.system, c)
		}
	case behindSystem:
		p.at = more
	}
}

// space reads a Space that is no part of a text in quotes.
func (p *steps) space() {
	switch p.at {
	case inName:
		p.at = behindName
	case inWord:
		p.at = astray
	}
}

// letter reads a byte of the word behind the name.
func (p *steps) letter(c string) {
	p.at = inWord
	p.word += c
	switch {
	case p.word == "public":
		p.at = behindPublicWord
	case p.word == "system":
		p.at = behindSystemWord
	case !strings.HasPrefix("public", p.word) && !strings.HasPrefix("system", p.word):
		p.at = astray
	}
}

// open reads what should be a text's first quote.
func (p *steps) open(c byte, in int) {
	if c != '"' && c != '\'' {
		p.at = astray
		return
	}
	p.quote = c
	p.at = in
	p.doc.HasPublic = p.doc.HasPublic || in == inPublic
	p.doc.HasSystem = p.doc.HasSystem || in == inSystem
}

// end is what was read, when all was.
func (p *steps) end(ended bool) Doc {
	d := p.doc
	d.Name, d.Public, d.System = clean(low(string(p.name))), clean(string(p.public)), clean(string(p.system))
	switch p.at {
	case inName, behindName, behindPublic, behindSystem:
		d.Quirks = !ended
	case more:
	default:
		d.Quirks = true
	}
	return d
}

// wantParse is what the chapter asks of Parse.
func wantParse(raw string, ended bool) Doc {
	var p steps
	for at := range len(raw) {
		p.step(raw[at])
	}
	return p.end(ended)
}

// When there are Quirks.
const (
	always = iota
	open   // where it isn't ended
	never
)

// kind is one kind of what a doctype says: its shape, and when there are Quirks. A shape's parts are its name, its public text and its system text, as n, p and s tell.
type kind struct {
	shape  *regexp.Regexp
	quirks int
}

// shape makes a regexp of a whole doctype: a blank stands for whatever many Spaces, and GAP for one that must be there; PQ and SQ for texts in quotes, POPEN and SOPEN for those without an end.
func shape(text string) *regexp.Regexp {
	var told strings.Builder
	for _, part := range strings.Split(text, " ") {
		told.WriteString(part + "[\\t\\n\\f ]*")
	}
	words := strings.NewReplacer("NAME", `(?P<n>[^\t\n\f ]+)`, "GAP", `[\t\n\f ]`, "PUBLIC", `[pP][uU][bB][lL][iI][cC]`, "SYSTEM", `[sS][yY][sS][tT][eE][mM]`,
		"PQ", `(?:"(?P<p>[^"]*)"|'(?P<p>[^']*)')`, "SQ", `(?:"(?P<s>[^"]*)"|'(?P<s>[^']*)')`,
		"POPEN", `(?:"(?P<p>[^"]*)|'(?P<p>[^']*))`, "SOPEN", `(?:"(?P<s>[^"]*)|'(?P<s>[^']*))`, "MORE", `[^\t\n\f ](?s:.*)`, "OTHER", `[^\t\n\f "'](?s:.*)`)
	return regexp.MustCompile("^[\\t\\n\\f ]*" + strings.TrimSuffix(words.Replace(told.String()), "[\\t\\n\\f ]*") + "$")
}

// kinds is all that a doctype may be; one that isn't any of them but the last is that one.
func kinds() []kind {
	return []kind{
		{shape(""), always},
		{shape("NAME "), open},
		{shape("NAME GAP PUBLIC PQ "), open},
		{shape("NAME GAP PUBLIC POPEN"), always},
		{shape("NAME GAP PUBLIC PQ OTHER"), always},
		{shape("NAME GAP PUBLIC PQ SOPEN"), always},
		{shape("NAME GAP PUBLIC PQ SQ "), open},
		{shape("NAME GAP PUBLIC PQ SQ MORE"), never},
		{shape("NAME GAP SYSTEM SOPEN"), always},
		{shape("NAME GAP SYSTEM SQ "), open},
		{shape("NAME GAP SYSTEM SQ MORE"), never},
		{shape("NAME GAP MORE"), always},
	}
}

// inShapes is what the first kind tells of a doctype that has its shape.
func inShapes(of []kind, raw string, ended bool) Doc {
	var d Doc
	for _, k := range of {
		at := k.shape.FindStringSubmatchIndex(raw)
		if at == nil {
			continue
		}
		for n, name := range k.shape.SubexpNames() {
			if at[2*n] < 0 {
				continue
			}
			switch text := clean(raw[at[2*n]:at[2*n+1]]); name {
			case "n":
				d.Name, d.HasName = low(text), true
			case "p":
				d.Public, d.HasPublic = text, true
			case "s":
				d.System, d.HasSystem = text, true
			}
		}
		d.Quirks = k.quirks == always || k.quirks == open && !ended
		return d
	}
	return d
}

// short is s, or so much of it as a failing test may tell.
func short(s string) string {
	if len(s) > 100 {
		return s[:100] + ".."
	}
	return s
}

// show is r, in short.
func show(r read) string {
	return strconv.Itoa(r.t.Kind) + " " + strconv.Quote(short(r.t.Name)) + " " + strconv.Quote(short(r.t.Text)) + " " + strconv.Itoa(len(r.t.Attrs)) + " " + strconv.FormatBool(r.t.Self) + " " + strconv.Itoa(r.next) + " " + strconv.FormatBool(r.ok)
}

// showDoc is d, in short.
func showDoc(d Doc) string {
	told := ""
	for _, part := range []struct {
		is   string
		text string
		has  bool
	}{{"name", d.Name, d.HasName}, {"public", d.Public, d.HasPublic}, {"system", d.System, d.HasSystem}} {
		told += part.is + " " + strconv.Quote(short(part.text)) + " " + strconv.FormatBool(part.has) + ", "
	}
	return told + "quirks " + strconv.FormatBool(d.Quirks)
}

// checkAt checks Begins and Read at one place of s.
func checkAt(t *testing.T, s string, at int) {
	t.Helper()
	if got, want := Begins(s, at), wantBegins(s, at); got != want {
		t.Errorf("Begins(%q, %d): %t", short(s), at, got)
	}
	if got, want := gotRead(s, at), wantRead(s, at); !same(got, want) {
		t.Errorf("Read(%q, %d): %s, want %s", short(s), at, show(got), show(want))
	}
}

// farAway is places that no text has.
func farAway() []int {
	return []int{math.MinInt, math.MinInt + 1, math.MinInt + 9, math.MinInt32, -1 << 32, -1<<32 + 1, -33, 1 << 31, 1 << 32, 1<<32 + 1, math.MaxInt - 10, math.MaxInt - 9, math.MaxInt - 8, math.MaxInt - 1, math.MaxInt}
}

// check checks Begins and Read at each place of s, and beside them.
func check(t *testing.T, s string) {
	t.Helper()
	for at := -10; at <= len(s)+10; at++ {
		checkAt(t, s, at)
	}
	for _, at := range farAway() {
		checkAt(t, s, at)
	}
}

// checkParse checks Parse of one text, ended and not ended.
func checkParse(t *testing.T, raw string) {
	t.Helper()
	for _, ended := range []bool{true, false} {
		if got, want := Parse(raw, ended), wantParse(raw, ended); got != want {
			t.Errorf("Parse(%q, %t): %s, want %s", short(raw), ended, showDoc(got), showDoc(want))
		}
	}
}

// checkShapes checks Parse of one text against the kinds that a doctype may be of.
func checkShapes(t *testing.T, of []kind, raw string) {
	t.Helper()
	for _, ended := range []bool{true, false} {
		if got, want := Parse(raw, ended), inShapes(of, raw, ended); got != want {
			t.Errorf("Parse(%q, %t): %s, in shapes %s", short(raw), ended, showDoc(got), showDoc(want))
		}
	}
}

// checkFollows checks what follows of the steps (P11.3), and what the flags of a Doc tell of its texts.
func checkFollows(t *testing.T, raw string) {
	t.Helper()
	whole, cut := Parse(raw, true), Parse(raw, false)
	for _, d := range []Doc{whole, cut} {
		if !d.HasName && d != (Doc{Quirks: true}) {
			t.Errorf("Parse(%q, _): no name, but %s", short(raw), showDoc(d))
		}
		if d.HasName != (d.Name != "") || !d.HasPublic && d.Public != "" || !d.HasSystem && d.System != "" {
			t.Errorf("Parse(%q, _): %s", short(raw), showDoc(d))
		}
	}
	if !cut.Quirks && (whole.Quirks || !cut.HasSystem || Parse(raw+"x", true) != cut) {
		t.Errorf("Parse(%q, false): %s", short(raw), showDoc(cut))
	}
	// Of an end nothing hangs but Quirks.
	if cut.Quirks = whole.Quirks; cut != whole {
		t.Errorf("Parse(%q, _): %s, %s", short(raw), showDoc(whole), showDoc(cut))
	}
}

// named, public, system and both are what is told of a doctype that says just these.
func named(name string) Doc { return Doc{Name: name, HasName: true} }

func public(name, text string) Doc {
	return Doc{Name: name, Public: text, HasName: true, HasPublic: true}
}

func system(name, text string) Doc {
	return Doc{Name: name, System: text, HasName: true, HasSystem: true}
}

func both(name, text, other string) Doc {
	return Doc{Name: name, Public: text, System: other, HasName: true, HasPublic: true, HasSystem: true}
}

// checkDoc checks what is told of raw, and when there are Quirks, with whatever many Spaces ahead.
func checkDoc(t *testing.T, raw string, want Doc, quirks int) {
	t.Helper()
	for _, ahead := range []string{"", " ", "\t", "\n", "\f", " \n\t\f "} {
		for _, ended := range []bool{true, false} {
			want.Quirks = quirks == always || quirks == open && !ended
			if got := Parse(ahead+raw, ended); got != want {
				t.Errorf("Parse(%q, %t): %s, want %s", short(ahead+raw), ended, showDoc(got), showDoc(want))
			}
		}
		checkParse(t, ahead+raw)
		checkFollows(t, ahead+raw)
	}
}

// checkSpaced checks what is told of raw, behind which Spaces say nothing.
func checkSpaced(t *testing.T, raw string, want Doc, quirks int) {
	t.Helper()
	for _, behind := range []string{"", " ", "\t", "\n", "\f", " \n\t\f "} {
		checkDoc(t, raw+behind, want, quirks)
	}
}

// eachText hands all texts of n of those parts to see.
func eachText(of []string, n int, see func(string)) {
	if n == 0 {
		see("")
		return
	}
	eachText(of, n-1, func(ahead string) {
		for _, part := range of {
			see(ahead + part)
		}
	})
}

// eachByte is each byte, as a text of its own.
func eachByte() []string {
	var told []string
	for c := range 256 {
		told = append(told, string([]byte{byte(c)}))
	}
	return told
}

// eachCase is a word in each mixture of large letters and small ones.
func eachCase(word string) []string {
	told := []string{""}
	for _, c := range strings.Split(word, "") {
		var longer []string
		for _, ahead := range told {
			longer = append(longer, ahead+strings.ToLower(c), ahead+strings.ToUpper(c))
		}
		told = longer
	}
	return told
}

// gaps is what may stand between two parts of a doctype: nothing, each Space, more of them.
var gaps = []string{"", " ", "\t", "\n", "\f", "  ", " \f\n\t "}

// aheads is what may stand ahead of a doctype, and is nothing to it.
var aheads = []string{"", "a", "<", "<!", "<!d", "<!doctyp", "<a>", "</", "<a x='", "\x00\xff", "<!--", ">", "<!doctype"}

// checkNone checks that no doctype begins with s, whatever stands ahead of it.
func checkNone(t *testing.T, s string) {
	t.Helper()
	for _, ahead := range aheads {
		if Begins(ahead+s, len(ahead)) {
			t.Errorf("Begins(%q, %d)", short(ahead+s), len(ahead))
		}
		if got := gotRead(ahead+s, len(ahead)); !same(got, none(len(ahead))) {
			t.Errorf("Read(%q, %d): %s, though none begins", short(ahead+s), len(ahead), show(got))
		}
	}
	check(t, s)
}

// checkTold checks that a doctype begins with s, has that text, and ends behind so many bytes, whatever stands ahead of it.
func checkTold(t *testing.T, s, text string, length int) {
	t.Helper()
	for _, ahead := range aheads {
		if !Begins(ahead+s, len(ahead)) {
			t.Errorf("Begins(%q, %d): false", short(ahead+s), len(ahead))
		}
		if got, want := gotRead(ahead+s, len(ahead)), told(text, len(ahead)+length); !same(got, want) {
			t.Errorf("Read(%q, %d): %s, want %s", short(ahead+s), len(ahead), show(got), show(want))
		}
	}
	check(t, s)
}

// checkEnds checks a doctype of which that stands behind its mark, with a bracket and without, whatever stands behind the bracket.
func checkEnds(t *testing.T, mark, behind, text string) {
	t.Helper()
	s := mark + behind
	checkTold(t, s, text, len(s))
	for _, after := range []string{"", ">", "a", "<a>", "'>", "\">", " html>", "<!doctype>", "\x00\xff", "\n"} {
		checkTold(t, s+">"+after, text, len(s)+1)
	}
}

func TestPlacesThatAreNotThere(t *testing.T) {
	for _, s := range []string{"", "<", "<!", "<!doctype", "<!doctype>", "<!DOCTYPE html>a", "a", "\x00", "<!doctype html"} {
		for _, at := range append(farAway(), -10, -9, -8, -2, -1, len(s), len(s)+1, len(s)+2, len(s)+8, len(s)+9, len(s)+10) {
			if Begins(s, at) {
				t.Errorf("Begins(%q, %d)", s, at)
			}
			if got := gotRead(s, at); !same(got, none(at)) {
				t.Errorf("Read(%q, %d): %s", s, at, show(got))
			}
		}
	}
}

func TestMarks(t *testing.T) {
	words := eachCase("doctype")
	if len(words) != 128 {
		t.Fatal(len(words))
	}
	for _, word := range words {
		mark := "<!" + word
		for _, x := range []struct{ s, text string }{{mark, ""}, {mark + " html", " html"}, {mark + "a", "a"}, {mark + "\x00", bad}, {mark + "'", "'"}} {
			if got := gotRead(x.s, 0); !Begins(x.s, 0) || !same(got, told(x.text, len(x.s))) {
				t.Errorf("Begins(%q, 0): %t, Read: %s", x.s, Begins(x.s, 0), show(got))
			}
			if got := gotRead("a"+x.s+">b", 1); !Begins("a"+x.s+">b", 1) || !same(got, told(x.text, len(x.s)+2)) {
				t.Errorf("Begins(%q, 1): %t, Read: %s", "a"+x.s+">b", Begins("a"+x.s+">b", 1), show(got))
			}
		}
		for cut := range mark {
			for _, behind := range []string{"", ">", " ", " html>", "-", "\x00"} {
				if s := mark[:cut] + behind; Begins(s, 0) || !same(gotRead(s, 0), none(0)) {
					t.Errorf("Begins(%q, 0): %t, Read: %s", s, Begins(s, 0), show(gotRead(s, 0)))
				}
			}
		}
	}
}

// Each byte of the mark must be just what it is, but for a letter's size.
func TestMarksWithOtherBytes(t *testing.T) {
	const mark, large = "<!doctype", "<!DOCTYPE"
	for at := range mark {
		for _, c := range eachByte() {
			s := mark[:at] + c + mark[at+1:] + " html>"
			begins := c == mark[at:at+1] || c == large[at:at+1]
			if Begins(s, 0) != begins || gotRead(s, 0).ok != begins {
				t.Errorf("Begins(%q, 0): %t", s, !begins)
			}
			check(t, s)
			check(t, mark[:at]+c+mark[at:])
		}
		check(t, mark[:at]+mark[at+1:]+" html>")
	}
}

func TestWhereNoneBegins(t *testing.T) {
	for _, s := range []string{"", "a", ">", "<", "<!", "<!>", "<doctype>", "<?doctype>", "</doctype>", "<! doctype>", "< !doctype>", "<!-doctype>", "<!--doctype-->", "<!/doctype>", "<!doc type>", "<!doctyp>", "<!doctyp e>", "<!doctipe>", "<!docytpe html>", "<!octype>", "<!ddoctype>", "<!!doctype>", "<<!doctype>", "!doctype>", "doctype>", "doctype html", "&lt;!doctype>", "<!&#100;octype>", "<!doctyp\u00e9>", "<!doctyp\x00e>", "<!\x00doctype>", "\x00<!doctype>", "\xff<!doctype>", "\xbc!doctype>", "<\xa1doctype>", "\uff1c!doctype>", "<\uff01doctype>", "<!\uff24octype>", "<!html>", "<![doctype>", "<!ELEMENT doctype>", " <!doctype>", "'<!doctype>'"} {
		checkNone(t, s)
	}
}

func TestUpToABracket(t *testing.T) {
	for _, mark := range []string{"<!doctype", "<!DOCTYPE", "<!DocType", "<!dOCTYPe"} {
		for _, x := range []struct{ behind, text string }{
			{"", ""}, {" ", " "}, {" html", " html"}, {" HTML", " HTML"}, {"html", "html"}, {"s", "s"}, {"a", "a"}, {"\n\t\f html\r\n", "\n\t\f html\r\n"}, {"\r", "\r"}, {"/", "/"}, {" html/", " html/"}, {"!", "!"}, {"-", "-"}, {"--", "--"}, {"?", "?"},
			{" html PUBLIC \"-//W3C//DTD HTML 4.01//EN\" \"http://www.w3.org/TR/html4/strict.dtd\"", " html PUBLIC \"-//W3C//DTD HTML 4.01//EN\" \"http://www.w3.org/TR/html4/strict.dtd\""}, {" html SYSTEM 'about:legacy-compat'", " html SYSTEM 'about:legacy-compat'"},
			// Quotes, brackets that open, and references are text.
			{"'", "'"}, {"\"", "\""}, {" 'a", " 'a"}, {" html public \"a", " html public \"a"}, {"<", "<"}, {"<!doctype", "<!doctype"}, {" html [<!ELEMENT a 'b'", " html [<!ELEMENT a 'b'"}, {"</a", "</a"}, {"<!--a--", "<!--a--"}, {"&gt;", "&gt;"}, {"&#62;&lt;", "&#62;&lt;"},
			// The byte 0, bytes that are no signs, signs of more bytes.
			{"\x00", bad}, {" a\x00b\x00\x00", " a" + bad + "b" + bad + bad}, {"\xff\xe2\x82", "\xff\xe2\x82"}, {"\xbe", "\xbe"}, {"\uff1e\u00e9\U0001f600", "\uff1e\u00e9\U0001f600"}, {bad, bad},
			{strings.Repeat(" a", 60), strings.Repeat(" a", 60)},
		} {
			checkEnds(t, mark, x.behind, x.text)
		}
		// The first bracket is the end, whatever stands around it.
		for _, behind := range []string{"a>b>", " '>'>", " \">\">", " html public '>' '>'>", "<a>>", " a [<!b>]>", ">>", ">a>", "/>/>", "-->"} {
			text, _, _ := strings.Cut(behind, ">")
			checkTold(t, mark+behind, text, len(mark+text)+1)
		}
	}
	for _, c := range eachByte() {
		if c != ">" {
			checkEnds(t, "<!doctype", c, clean(c))
			checkEnds(t, "<!doctype", " a"+c+"b", clean(" a"+c+"b"))
		}
	}
}

// Each beginning of a doctype, from its mark on, is one that goes to the end.
func TestWhatHasNoEnd(t *testing.T) {
	const s = "<!DOCTYPE html\x00 public \"<!doctype\" 'a' &gt; \xff\n--"
	for last := range len(s) + 1 {
		got := gotRead(s[:last], 0)
		if Begins(s[:last], 0) != (last >= 9) || got.ok != (last >= 9) {
			t.Errorf("Begins(%q, 0): %t", s[:last], !(last >= 9))
		}
		if last >= 9 && !same(got, told(clean(s[9:last]), last)) {
			t.Errorf("Read(%q, 0): %s", s[:last], show(got))
		}
		checkAt(t, "x"+s[:last], 1)
		checkParse(t, s[:last])
	}
	check(t, s)
}

func TestDoctypesWithOthersAroundThem(t *testing.T) {
	const s = "a<!doctype html>b<!--<!doctype c--><p x='<!DOCTYPE'><!DOCTYPE><!DocType d<!doctype e>f<!doctyp><!doctype"
	check(t, s)
	for _, x := range []struct {
		at   int
		want read
	}{{1, told(" html", 16)}, {21, told(" c--", 35)}, {41, told("'", 52)}, {52, told("", 62)}, {62, told(" d<!doctype e", 85)}, {73, told(" e", 85)}, {95, told("", 104)}} {
		if got := gotRead(s, x.at); !same(got, x.want) {
			t.Errorf("Read(_, %d): %s, want %s", x.at, show(got), show(x.want))
		}
	}
	var begins []int
	for at := range s {
		if Begins(s, at) {
			begins = append(begins, at)
		}
	}
	if want := []int{1, 21, 41, 52, 62, 73, 95}; !slices.Equal(begins, want) {
		t.Errorf("%q: doctypes begin at %d, want %d", s, begins, want)
	}
}

// What Read tells is what Parse is handed.
func TestWhatIsReadIsParsed(t *testing.T) {
	for _, x := range []struct {
		s      string
		want   Doc
		quirks int
	}{
		{"<!DOCTYPE html", named("html"), open}, {"<!doctype", Doc{}, always}, {"<!DOCTYPEhtml", named("html"), open}, {"<!doctype Html SYSTEM 'about:legacy-compat'", system("html", "about:legacy-compat"), open}, {"<!doctype html\x00 public '\x00'\"\x00\"", both("html"+bad, bad, bad), open}, {"<!doctype a system '' b", system("a", ""), never},
	} {
		whole, cut := gotRead(x.s+">'", 0), gotRead(x.s, 0)
		x.want.Quirks = x.quirks == always
		if got := Parse(whole.t.Text, true); got != x.want {
			t.Errorf("%q, ended: %s, want %s", x.s, showDoc(got), showDoc(x.want))
		}
		x.want.Quirks = x.quirks != never
		if got := Parse(cut.t.Text, false); got != x.want {
			t.Errorf("%q: %s, want %s", x.s, showDoc(got), showDoc(x.want))
		}
	}
}

func TestNames(t *testing.T) {
	checkSpaced(t, "", Doc{}, always)
	for _, x := range []struct{ raw, name string }{
		{"html", "html"}, {"HTML", "html"}, {"hTmL", "html"}, {"a", "a"}, {"Z", "z"}, {"1", "1"}, {"public", "public"}, {"PUBLIC", "public"}, {"system", "system"}, {"systempublic", "systempublic"},
		// Quotes, brackets and all that is no Space are part of it.
		{"'", "'"}, {"\"", "\""}, {"'a'", "'a'"}, {"public'A'", "public'a'"}, {"system\"A\"", "system\"a\""}, {"html\"a\"'B'", "html\"a\"'b'"}, {">", ">"}, {"a>B", "a>b"}, {"<A>", "<a>"}, {"<!DOCTYPE", "<!doctype"}, {"/", "/"}, {"-", "-"}, {"[", "["}, {"@A`Z{", "@a`z{"}, {"&AMP;", "&amp;"},
		{"\x00", bad}, {"\x00\x00A\x00", bad + bad + "a" + bad}, {"\r", "\r"}, {"a\rB", "a\rb"}, {"\v\x0eA\x08\x0b", "\v\x0ea\x08\x0b"}, {"\x1f!", "\x1f!"}, {"\xff\xc1\xe2", "\xff\xc1\xe2"}, {"\u00c9\u0130\u212a\u00a0\u3000", "\u00c9\u0130\u212a\u00a0\u3000"}, {"\u2028\u0085\u1680", "\u2028\u0085\u1680"}, {bad, bad}, {"\U0001f600", "\U0001f600"},
		{strings.Repeat("aB\x00", 60), strings.Repeat("ab"+bad, 60)},
	} {
		checkSpaced(t, x.raw, named(x.name), open)
		// Up to the next Space.
		for _, space := range strings.Split(spaces, "") {
			checkSpaced(t, x.raw+space+"system"+space+"'B'", system(x.name, "B"), open)
			checkSpaced(t, x.raw+space+"B", named(x.name), always)
		}
	}
	for _, c := range eachByte() {
		if strings.Contains(spaces, c) {
			checkSpaced(t, c, Doc{}, always)
			checkSpaced(t, "a"+c+"PUBLIC"+c+"'b'", public("a", "b"), open)
			continue
		}
		checkSpaced(t, c, named(clean(low(c))), open)
		checkSpaced(t, "A"+c+"B", named("a"+clean(low(c))+"b"), open)
		checkSpaced(t, "a"+c+"PUBLIC"+c+"'b'", named("a"+clean(low(c))+"public"+clean(low(c))+"'b'"), open)
	}
}

func TestWords(t *testing.T) {
	for _, x := range []struct {
		word string
		doc  func(name, text string) Doc
	}{{"public", public}, {"system", system}} {
		words := eachCase(x.word)
		if len(words) != 64 {
			t.Fatal(len(words))
		}
		for _, word := range words {
			for _, space := range strings.Split(spaces, "") {
				checkDoc(t, "html"+space+word, named("html"), always)
				checkDoc(t, "html"+space+word+"'A'", x.doc("html", "A"), open)
				checkDoc(t, "html"+space+space+word+space+"\"A\"", x.doc("html", "A"), open)
			}
			// Cut short, and with other bytes in it.
			for cut := range word {
				for _, behind := range []string{"", " ", "'A'", " 'A'", word[cut:] + "x", word[cut:] + "x 'A'", " " + word[cut:] + "'A'", "\x00" + word[cut:] + "'A'", word[cut+1:] + "'A'"} {
					// Of a word of which nothing is left, Spaces would be left alone.
					if cut > 0 || behind != "" && !strings.HasPrefix(behind, " ") {
						checkDoc(t, "html "+word[:cut]+behind, named("html"), always)
					}
				}
			}
			checkDoc(t, "html "+word+word+" 'A'", named("html"), always)
			checkDoc(t, "html x"+word+" 'A'", named("html"), always)
		}
	}
	for _, raw := range []string{"public system 'a'", "system public 'a'", "publicsystem'a'", "systempublic'a'", "publicpublic'a'", "pubsystem 'a'", "publisystem 'a'", "systepublic 'a'", "syst\u00e9m 'a'", "\u017fystem 'a'", "sy\u017ftem 'a'", "publ\u0131c 'a'", "pub\u0130ic 'a'", "x", "'a'", "\"a\"", "'a' 'b'", ">", "<", "-", "\x00", "\xff", "\r", "\rpublic 'a'", "\vsystem 'a'", "\u00a0public 'a'", "html", "html public 'a'", "doctype system 'a'", "[public 'a']", "public\x00'a'", "system\x00'a'", "public\r'a'", "system\r'a'", "public\u00a0'a'", "public=a", "system=a", "public`a`", "system`a`", "public\\'a'", "system&quot;a&quot;", "public\u2018a\u2019", "system\u201ca\u201d", "public(a)", "system<a>", "public>", "system>", "public/", "system-'a'", "public x 'a'", "system x 'a'", "public1'a'", "systems'a'"} {
		for _, behind := range []string{"", " ", " 'b'", "\n"} {
			checkDoc(t, "html "+raw+behind, named("html"), always)
		}
	}
	for _, c := range eachByte() {
		if strings.Contains(spaces, c) {
			continue
		}
		checkSpaced(t, "html "+c, named("html"), always)
		checkDoc(t, "html "+c+" 'a'", named("html"), always)
		checkDoc(t, "html "+c+"public 'a'", named("html"), always)
		checkDoc(t, "html "+c+"system 'a'", named("html"), always)
		if !strings.Contains("'\"", c) {
			checkDoc(t, "html public"+c+"'a'", named("html"), always)
			checkDoc(t, "html system"+c+"'a'", named("html"), always)
			checkDoc(t, "html public "+c+"'a'", named("html"), always)
			checkDoc(t, "html system "+c+"'a'", named("html"), always)
		}
	}
}

// texts is what may stand in quotes of either kind, and what is told of it.
var texts = []struct{ raw, text string }{
	{"", ""}, {"a", "a"}, {"A", "A"}, {" ", " "}, {" a b\n\t\f ", " a b\n\t\f "}, {"-//W3C//DTD XHTML 1.0 Strict//EN", "-//W3C//DTD XHTML 1.0 Strict//EN"}, {"http://a/B", "http://a/B"}, {"public", "public"}, {"SYSTEM", "SYSTEM"}, {">", ">"}, {"<!DOCTYPE a>", "<!DOCTYPE a>"}, {"&quot;&#39;", "&quot;&#39;"}, {"\\", "\\"}, {"`", "`"},
	{"\x00", bad}, {"\x00a\x00\x00B", bad + "a" + bad + bad + "B"}, {"\r\n\r", "\r\n\r"}, {"\xff\xe2", "\xff\xe2"}, {"\xa2\xa7", "\xa2\xa7"}, {"\u00c9\u2018\u201d\U0001f600", "\u00c9\u2018\u201d\U0001f600"}, {bad, bad},
}

func TestTextsInQuotes(t *testing.T) {
	for _, x := range append(texts, struct{ raw, text string }{strings.Repeat("aB\x00 ", 60), strings.Repeat("aB"+bad+" ", 60)}) {
		for _, q := range []struct{ quote, other string }{{"'", "\""}, {"\"", "'"}} {
			for _, more := range []string{"", q.other, q.other + q.other, q.other + " " + q.other} {
				inside, text := more+x.raw+more, more+x.text+more
				whole, cut := q.quote+inside+q.quote, q.quote+inside
				for _, gap := range gaps {
					checkSpaced(t, "html public"+gap+whole, public("html", text), open)
					checkDoc(t, "html public"+gap+cut, public("html", text), always)
					checkSpaced(t, "html system"+gap+whole, system("html", text), open)
					checkDoc(t, "html system"+gap+cut, system("html", text), always)
					checkSpaced(t, "html public'P'"+gap+whole, both("html", "P", text), open)
					checkDoc(t, "html public'P'"+gap+cut, both("html", "P", text), always)
				}
			}
		}
	}
	for _, c := range eachByte() {
		for _, quote := range []string{"'", "\""} {
			if c == quote {
				checkSpaced(t, "a public "+c+c, public("a", ""), open)
				checkSpaced(t, "a system "+c+c, system("a", ""), open)
				continue
			}
			checkSpaced(t, "a public "+quote+c+quote, public("a", clean(c)), open)
			checkDoc(t, "a public "+quote+"b"+c, public("a", "b"+clean(c)), always)
			checkSpaced(t, "a system "+quote+c+quote, system("a", clean(c)), open)
			checkDoc(t, "a system "+quote+"b"+c, system("a", "b"+clean(c)), always)
			checkSpaced(t, "a public \"P\" "+quote+c+quote, both("a", "P", clean(c)), open)
			checkDoc(t, "a public \"P\" "+quote+"b"+c, both("a", "P", "b"+clean(c)), always)
		}
	}
}

func TestWhatStandsBehindTexts(t *testing.T) {
	for _, gap := range gaps {
		for _, c := range eachByte() {
			if strings.Contains(spaces, c) {
				continue
			}
			for _, behind := range []string{"", " ", "b", " 'b'", "\x00"} {
				if !strings.Contains("'\"", c) {
					checkDoc(t, "html public 'a'"+gap+c+behind, public("html", "a"), always)
				}
				// Behind the second text nothing makes quirks any more.
				checkDoc(t, "html system 'a'"+gap+c+behind, system("html", "a"), never)
				checkDoc(t, "html public \"p\" 'a'"+gap+c+behind, both("html", "p", "a"), never)
			}
		}
		for _, behind := range []string{"public 'b'", "system 'b'", "x 'b'", "-'b'"} {
			checkDoc(t, "html public 'a'"+gap+behind, public("html", "a"), always)
			checkDoc(t, "html system 'a'"+gap+behind, system("html", "a"), never)
			checkDoc(t, "html public '' \"\""+gap+behind, both("html", "", ""), never)
		}
		for _, behind := range []string{"'b'", "\"b\"", "'", "\"", "'' ''"} {
			checkDoc(t, "html system 'a'"+gap+behind, system("html", "a"), never)
			checkDoc(t, "html system \"\""+gap+behind, system("html", ""), never)
			checkDoc(t, "html public \"p\" 'a'"+gap+behind, both("html", "p", "a"), never)
		}
	}
}

func TestOrdinaryDoctypes(t *testing.T) {
	for _, x := range []struct {
		raw    string
		want   Doc
		quirks int
	}{
		{"html", named("html"), open}, {"html PUBLIC \"a\" 'b'", both("html", "a", "b"), open},
		{"HTML PUBLIC \"-//W3C//DTD HTML 4.01 Transitional//EN\"", public("html", "-//W3C//DTD HTML 4.01 Transitional//EN"), open},
		{"HTML PUBLIC \"-//W3C//DTD HTML 4.01//EN\"\n\"http://www.w3.org/TR/html4/strict.dtd\"", both("html", "-//W3C//DTD HTML 4.01//EN", "http://www.w3.org/TR/html4/strict.dtd"), open},
		{"html SYSTEM \"about:legacy-compat\"", system("html", "about:legacy-compat"), open},
		{"math SYSTEM 'a.dtd' [<!ENTITY b 'c'", system("math", "a.dtd"), never},
		{"svg PUBLIC '-//W3C//DTD SVG 1.1//EN' 'b' [", both("svg", "-//W3C//DTD SVG 1.1//EN", "b"), never},
		{"html [<!ENTITY b 'c'", named("html"), always}, {"html \"a\"", named("html"), always}, {"html PUBLIC a", named("html"), always}, {"html PUBLIC", named("html"), always}, {"html SYSTEM a", named("html"), always},
		{"html PUBLIC 'a' [", public("html", "a"), always}, {"html PUBLIC 'a\"", public("html", "a\""), always}, {"html PUBLIC 'a' \"b", both("html", "a", "b"), always}, {"html SYSTEM 'a", system("html", "a"), always},
		{"html PUBLIC '''b'", both("html", "", "b"), open}, {"html PUBLIC''''", both("html", "", ""), open}, {"html PUBLIC '''", both("html", "", ""), always}, {"html SYSTEM ''", system("html", ""), open}, {"html SYSTEM '", system("html", ""), always}, {"html SYSTEM '''", system("html", ""), never}, {"html PUBLIC '", public("html", ""), always},
	} {
		checkDoc(t, x.raw, x.want, x.quirks)
	}
}

func TestAllShortTexts(t *testing.T) {
	bytes := eachByte()
	for _, ahead := range []string{"", "<!doctyp", "<!doctype", "<!DOCTYPE a", "<", "<!"} {
		for n := range 3 {
			eachText(bytes, n, func(s string) {
				checkAt(t, ahead+s, 0)
				checkAt(t, ahead+s+">", 0)
			})
		}
	}
	for _, ahead := range []string{"", " ", "a", "a ", "a publi", "a system", "a PUBLIC", "a system ", "a public\"", "a system'", "a public 'b", "a public 'b'", "a public \"b\" ", "a public ''\"", "a system \"c\"", "a public 'b' 'c' "} {
		for n := range 3 {
			eachText(bytes, n, func(s string) { checkParse(t, ahead+s) })
		}
	}
	parts := []string{"<", ">", "!", "doctype", "DocTyp", "e", " ", "'", "\x00", "\xff", "<!doctype"}
	for n := range 5 {
		eachText(parts, n, func(s string) { check(t, s) })
	}
}

func TestAllTextsOfParts(t *testing.T) {
	of := kinds()
	parts := []string{" ", "\n", "'", "\"", "a", "Z", "\x00", "public", "SYSTEM", "x 'b'"}
	for n := range 6 {
		eachText(parts, n, func(s string) {
			checkParse(t, s)
			checkParse(t, "html public "+s)
			checkParse(t, "html System'"+s)
		})
	}
	parts = []string{" ", "'", "\"", "a", "public", "SYSTEM", "\x00", "\xff"}
	for n := range 5 {
		eachText(parts, n, func(s string) {
			for _, ahead := range []string{"", "A ", "a public", "a system ", "a public''"} {
				checkShapes(t, of, ahead+s)
				checkFollows(t, ahead+s)
			}
		})
	}
	eachText([]string{" ", "'", "\"", "a", "public"}, 7, func(s string) {
		checkParse(t, s)
		checkParse(t, "a public"+s)
	})
	eachText([]string{" ", "'", "\"", "a"}, 9, func(s string) { checkParse(t, "a system"+s) })
}

func TestLongDoctypes(t *testing.T) {
	for _, part := range []string{"a", " ", "'", "\"", "<", "\x00", "\xff", "<!doctype", "public", "public ", "system'", "' ", "\r\n", "\u00e9", ">"} {
		s := strings.Repeat(part, 2000)
		for _, behind := range []string{"", ">", "'", "\"", " ", "a"} {
			checkAt(t, "<!doctype"+s+behind, 0)
			checkAt(t, s+"<!doctype"+s+behind, len(s))
			for _, ahead := range []string{"", "a ", "a public", "a public ", "a public'", "a public\"", "a public''", "a system", "a system'", "a system ''"} {
				checkParse(t, ahead+s+behind)
			}
		}
	}
	// Texts of very many bytes, each second of which is told otherwise than it stands there.
	const many = 1 << 20
	from, to, gap := strings.Repeat("A\x00", many), strings.Repeat("A"+bad, many), strings.Repeat(" \n", many)
	if got := gotRead("<!doctype"+from+">a", 0); !same(got, told(to, 2*many+10)) {
		t.Error(show(got))
	}
	if got := gotRead("<!doctype"+from, 0); !same(got, told(to, 2*many+9)) {
		t.Error(show(got))
	}
	name := strings.ToLower(to)
	for _, x := range []struct {
		raw    string
		want   Doc
		quirks int
	}{
		{gap, Doc{}, always}, {gap + from + gap, named(name), open}, {from + gap + "x", named(name), always}, {from + gap + "public" + gap, named(name), always},
		{from + gap + "public" + gap + "'" + from + "'" + gap + "\"" + from + "\"" + gap, both(name, to, to), open}, {"a public '" + from, public("a", to), always}, {"a system" + gap + "'" + gap + "'" + gap + from, system("a", gap), never},
	} {
		for _, ended := range []bool{true, false} {
			x.want.Quirks = x.quirks == always || x.quirks == open && !ended
			if got := Parse(x.raw, ended); got != x.want {
				t.Errorf("Parse(%q, %t): %s", short(x.raw), ended, showDoc(got))
			}
		}
	}
}

func TestTheSameEachTime(t *testing.T) {
	for range 1000 {
		for _, s := range []string{"<!doctype html>", "<!DOCTYPE", "<!doctyp>", "<", ""} {
			checkAt(t, s, 0)
		}
		for _, raw := range []string{"", " html", " html public 'a' \"b\"", "html system 'a", "html x"} {
			checkParse(t, raw)
		}
	}
}

func TestWhatIsToldIsMemoryOfItsOwn(t *testing.T) {
	const s = "<!doctype a\x00>"
	first, second := gotRead(s, 0), gotRead(s, 0)
	first.t.Attrs = append(first.t.Attrs, api.Attr{Name: "y", Value: "z"})
	first.t.Text += "b"
	if third, want := gotRead(s, 0), told(" a"+bad, 13); !same(second, want) || !same(third, want) {
		t.Errorf("%s, %s", show(second), show(third))
	}
	// What stood in another doctype ahead is nothing to it.
	if got := gotRead("<!doctypeb>", 0); !same(got, told("b", 11)) {
		t.Error(show(got))
	}
	if got := Parse("a public 'b' 'c'", true); got != both("a", "b", "c") {
		t.Error(showDoc(got))
	}
	if got := Parse("d", true); got != named("d") {
		t.Error(showDoc(got))
	}
}

func FuzzDoctype(f *testing.F) {
	for _, s := range []string{"", "<!doctype", "<!DOCTYPE html>", "<!doctypea\x00>", "<!doctyp>", "x<!doctype html>y", " html", " html public", " html PUBLIC \"a\" 'b'", " html system 'b' x", " html public 'a\"", "\n\f\tA\x00 SYSTEM\"'\"", " html x", "a public '''"} {
		f.Add(s, 0)
		f.Add(s, 1)
	}
	of := kinds()
	f.Fuzz(func(t *testing.T, s string, at int) {
		checkAt(t, s, at)
		check(t, s[:min(len(s), 200)])
		for _, ahead := range []string{"", "a ", "a public", "a system'"} {
			checkParse(t, ahead+s)
			checkShapes(t, of, ahead+s)
			checkFollows(t, ahead+s)
		}
	})
}
