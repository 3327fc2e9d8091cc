package tag

import (
	"math"
	"slices"
	"strconv"
	"strings"
	"testing"

	"flail/api"
	"flail/attrs"
)

// bad is the sign 65533 by its bytes, so that the tests hang on no other package's word for it.
const bad = "\xef\xbf\xbd"

// The kinds of bytes, put down byte by byte, so that the tests share no rule with the program.
const (
	larges = "ABCDEFGHIJKLMNOPQRSTUVWXYZ"
	smalls = "abcdefghijklmnopqrstuvwxyz"
	spaces = "\x09\x0a\x0c\x20"
	enders = spaces + "/>"
)

// notSpaces is bytes that are like Spaces, but none.
var notSpaces = []string{"\x00", "\x01", "\b", "\v", "\r", "\x0e", "\x1f", "\x7f", "\x85", "\xa0", "\u00a0", "\u2003"}

// list is attributes, of names and values in turn.
func list(of ...string) []api.Attr {
	var told []api.Attr
	for k := 0; k < len(of); k += 2 {
		told = append(told, api.Attr{Name: of[k], Value: of[k+1]})
	}
	return told
}

// start is a start tag.
func start(name string, self bool, of ...string) api.Token {
	return api.Token{Kind: 1, Name: name, Attrs: list(of...), Self: self}
}

// end is an end tag.
func end(name string) api.Token { return api.Token{Kind: 2, Name: name} }

// read is what Read tells, so that two of them can be held against each other.
type read struct {
	t    api.Token
	next int
	ok   bool
}

// same tells whether a and b are alike; an empty list is one like none.
func same(a, b read) bool {
	return a.t.Kind == b.t.Kind && a.t.Name == b.t.Name && a.t.Text == b.t.Text && slices.Equal(a.t.Attrs, b.t.Attrs) && a.t.Self == b.t.Self && a.next == b.next && a.ok == b.ok
}

// gotRead is what Read tells.
func gotRead(s string, at int) read {
	t, next, ok := Read(s, at)
	return read{t, next, ok}
}

// told is a name of those bytes, as it is told.
func told(name string) string {
	var b []byte
	for k := range len(name) {
		n := strings.IndexByte(larges, name[k])
		switch {
		case name[k] == 0:
			b = append(b, bad...)
		case n >= 0:
			b = append(b, smalls[n])
		default:
			b = append(b, name[k])
		}
	}
	return string(b)
}

// beginnings is all that tags begin with: a bracket, with a stroke and without, and each letter.
func beginnings() []string {
	var of []string
	for _, letter := range strings.Split(larges+smalls, "") {
		of = append(of, "<"+letter, "</"+letter)
	}
	return of
}

// allBeginnings is made once, as the tests hold very many texts against it.
var allBeginnings = beginnings()

// letterOf is the place of the letter of the tag that begins at a place; -1, if none does.
func letterOf(s string, at int) int {
	if at < 0 || at > len(s) {
		return -1
	}
	for _, begin := range allBeginnings {
		if strings.HasPrefix(s[at:], begin) {
			return at + len(begin) - 1
		}
	}
	return -1
}

// wantRead is what the chapter asks of Read, on what chapter 8 tells behind the name.
func wantRead(s string, at int) read {
	letter := letterOf(s, at)
	if letter < 0 {
		return read{next: at}
	}
	name := s[letter:]
	if n := strings.IndexAny(name, enders); n >= 0 {
		name = name[:n]
	}
	l, self, next, ok := attrs.Read(s, letter+len(name))
	switch {
	case !ok:
		return read{next: len(s)}
	case s[letter-1] == '/':
		return read{end(told(name)), next, true}
	}
	return read{api.Token{Kind: 1, Name: told(name), Attrs: l, Self: self}, next, true}
}

// short is s, or so much of it as a failing test may tell.
func short(s string) string {
	if len(s) > 100 {
		return s[:100] + ".."
	}
	return s
}

// show is r, in short.
func show(r read) string {
	told := strconv.Itoa(r.t.Kind) + " " + strconv.Quote(short(r.t.Name)) + " " + strconv.Quote(short(r.t.Text)) + " " + strconv.FormatBool(r.t.Self)
	for _, a := range r.t.Attrs[:min(len(r.t.Attrs), 9)] {
		told += " " + strconv.Quote(short(a.Name)) + "=" + strconv.Quote(short(a.Value))
	}
	return told + " " + strconv.Itoa(r.next) + " " + strconv.FormatBool(r.ok)
}

// checkAt checks both calls at one place of s, and what follows of them (P9.3).
func checkAt(t *testing.T, s string, at int) {
	t.Helper()
	begins := letterOf(s, at) >= 0
	if got := Begins(s, at); got != begins {
		t.Errorf("Begins(%q, %d): %t", short(s), at, got)
	}
	got, want := gotRead(s, at), wantRead(s, at)
	if !same(got, want) {
		t.Errorf("Read(%q, %d): %s, want %s", short(s), at, show(got), show(want))
	}
	if got.ok && got.t.Name == "" {
		t.Errorf("Read(%q, %d): an empty name", short(s), at)
	}
	if got.t.Kind == api.End && (len(got.t.Attrs) > 0 || got.t.Self) {
		t.Errorf("Read(%q, %d): %s, of an end tag", short(s), at, show(got))
	}
	if got.ok && !begins {
		t.Errorf("Read(%q, %d): a tag where none begins", short(s), at)
	}
}

// farAway is places that no text has.
func farAway() []int {
	return []int{math.MinInt, math.MinInt + 1, math.MinInt32, -1 << 32, -1<<32 + 1, -33, 1 << 31, 1 << 32, 1<<32 + 1, math.MaxInt - 2, math.MaxInt - 1, math.MaxInt}
}

// check checks both calls at each place of s, and beside them.
func check(t *testing.T, s string) {
	t.Helper()
	for at := -3; at <= len(s)+3; at++ {
		checkAt(t, s, at)
	}
	for _, at := range farAway() {
		checkAt(t, s, at)
	}
}

// checkNone checks that no tag begins at a place of s.
func checkNone(t *testing.T, s string, at int) {
	t.Helper()
	if Begins(s, at) {
		t.Errorf("Begins(%q, %d)", short(s), at)
	}
	if got := gotRead(s, at); !same(got, read{next: at}) {
		t.Errorf("Read(%q, %d): %s, though none begins", short(s), at, show(got))
	}
}

// checkOpen checks that a tag begins at a place of s, and doesn't end.
func checkOpen(t *testing.T, s string, at int) {
	t.Helper()
	if !Begins(s, at) {
		t.Errorf("Begins(%q, %d): false", short(s), at)
	}
	if got := gotRead(s, at); !same(got, read{next: len(s)}) {
		t.Errorf("Read(%q, %d): %s, though it doesn't end", short(s), at, show(got))
	}
}

// checkTag checks a whole tag: alone, behind other bytes, with others behind it, and with each of its bytes as its last one.
func checkTag(t *testing.T, s string, want api.Token) {
	t.Helper()
	for _, ahead := range []string{"", "a", "<", "</", "<a", "<a>", "<!--", "\x00\xff", "<a x='>"} {
		for _, behind := range []string{"", ">", "/>", " b=2>", "</a>", "'\"", "\xff"} {
			whole := ahead + s + behind
			if !Begins(whole, len(ahead)) {
				t.Errorf("Begins(%q, %d): false", short(whole), len(ahead))
			}
			if got, want := gotRead(whole, len(ahead)), (read{want, len(ahead + s), true}); !same(got, want) {
				t.Errorf("Read(%q, %d): %s, want %s", short(whole), len(ahead), show(got), show(want))
			}
		}
	}
	letter := strings.IndexAny(s, larges+smalls)
	for last := range s {
		if last <= letter {
			checkNone(t, s[:last], 0)
		} else {
			checkOpen(t, s[:last], 0)
		}
	}
	check(t, s)
}

// eachText hands all texts of n of those parts to see.
func eachText(of []string, n int, see func(string)) {
	if n == 0 {
		see("")
		return
	}
	eachText(of, n-1, func(ahead string) {
		for _, part := range of {
			see(ahead + part)
		}
	})
}

// eachByte is each byte, as a text of its own.
func eachByte() []string {
	var told []string
	for c := range 256 {
		told = append(told, string([]byte{byte(c)}))
	}
	return told
}

func TestPlacesThatAreNotThere(t *testing.T) {
	for _, s := range []string{"", "<", "</", "<a", "</a", "<a>", "</a>", "a", "<a x=1/>", "\x00", "<\xff>"} {
		for _, at := range append(farAway(), -5, -4, -3, -2, -1, len(s), len(s)+1, len(s)+2, len(s)+3, len(s)+4) {
			checkNone(t, s, at)
		}
	}
}

func TestWhereTagsBegin(t *testing.T) {
	for _, x := range []struct {
		s    string
		want bool
	}{
		{"<a", true}, {"<z", true}, {"<A", true}, {"<Z", true}, {"</a", true}, {"</z", true}, {"</A", true}, {"</Z", true}, {"<a>", true}, {"</a>", true}, {"<a<", true}, {"<a\xff", true},
		{"<", false}, {"</", false}, {"<<", false}, {"<<a", false}, {"<>", false}, {"</>", false}, {"<//", false}, {"<//a", false}, {"<//a>", false}, {"</<a", false}, {"</</a", false}, {"< a", false}, {"</ a", false}, {"< /a", false}, {"<\na", false}, {"<1", false}, {"</1", false}, {"<!a", false}, {"<!--a", false}, {"<!doctype", false}, {"<?a", false}, {"</!a", false}, {"<@", false}, {"<[", false}, {"<`", false}, {"<{", false}, {"</@", false}, {"</[", false}, {"</`", false}, {"</{", false}, {"<\x00a", false}, {"</\x00a", false},
		{"a", false}, {"a<a", false}, {"/a", false}, {"/<a", false}, {">a", false}, {"&lt;a", false}, {"\\a", false}, {"\x00<a", false}, {" <a>", false}, {"/", false}, {"//", false}, {"//a", false},
		// Bytes that are no signs, and signs that are no letters.
		{"<\xff", false}, {"<\xc1", false}, {"<\xe1a", false}, {"</\xc1", false}, {"</\xff>", false}, {"\xbca", false}, {"\xffa", false}, {"\xbc/a", false}, {"<\xafa", false}, {"<\u00e9", false}, {"<\u212a", false}, {"</\u0130", false}, {"<\uff21", false}, {"\uff1ca", false},
	} {
		for _, ahead := range []string{"", "a", "<", "</", "<a", "/", "\xff"} {
			for _, behind := range []string{"", ">", " x=1>", "a>", "/>"} {
				// These begin a tag, with a letter behind them.
				if behind == "a>" && (x.s == "<" || x.s == "</") {
					continue
				}
				if got := Begins(ahead+x.s+behind, len(ahead)); got != x.want {
					t.Errorf("Begins(%q, %d): %t", ahead+x.s+behind, len(ahead), got)
				}
			}
			if !x.want {
				checkNone(t, ahead+x.s, len(ahead))
			}
		}
		check(t, x.s)
	}
}

func TestWhatStandsBehindBrackets(t *testing.T) {
	for _, c := range eachByte() {
		letter := strings.Contains(larges+smalls, c)
		for _, begin := range []string{"<", "</"} {
			for _, behind := range []string{"", ">", "b>", " x=1>", "\xff>"} {
				s := begin + c + behind
				// A bracket and a stroke are the other beginning, of which what stands behind it tells.
				if c != "/" && Begins(s, 0) != letter {
					t.Errorf("Begins(%q, 0): %t", s, !letter)
				}
				check(t, s)
				check(t, "x"+s)
			}
			check(t, c+begin+"a>")
		}
		if s := c + "a>"; Begins(s, 0) != (c == "<") {
			t.Errorf("Begins(%q, 0)", s)
		}
		if s := c + "/a>"; Begins(s, 0) != (c == "<") {
			t.Errorf("Begins(%q, 0)", s)
		}
	}
}

func TestLetters(t *testing.T) {
	for k := range larges {
		large, small := larges[k:k+1], smalls[k:k+1]
		for _, letter := range []string{large, small} {
			checkTag(t, "<"+letter+">", start(small, false))
			checkTag(t, "</"+letter+">", end(small))
			checkTag(t, "<"+letter+large+small+"/>", start(small+small+small, true))
			checkTag(t, "</"+letter+large+small+">", end(small+small+small))
		}
	}
}

func TestNames(t *testing.T) {
	for _, x := range []struct{ name, want string }{
		{"a", "a"}, {"A", "a"}, {"p", "p"}, {"br", "br"}, {"BR", "br"}, {"Br", "br"}, {"h1", "h1"}, {"H6", "h6"}, {"textarea", "textarea"}, {"TEXTAREA", "textarea"}, {"a-b", "a-b"}, {"A:B", "a:b"}, {"a.b_c", "a.b_c"}, {"a1-\x00:", "a1-" + bad + ":"},
		// The byte 0.
		{"a\x00", "a" + bad}, {"a\x00b\x00\x00C", "a" + bad + "b" + bad + bad + "c"}, {"a" + bad, "a" + bad},
		// Signs that mark elsewhere.
		{"a\"", "a\""}, {"a'", "a'"}, {"a\"b\"", "a\"b\""}, {"a'b'c", "a'b'c"}, {"a=", "a="}, {"a=b", "a=b"}, {"A='B'", "a='b'"}, {"a<", "a<"}, {"a<b", "a<b"}, {"a<<B", "a<<b"}, {"a<!--", "a<!--"}, {"a!", "a!"}, {"a?", "a?"}, {"a&lt;", "a&lt;"}, {"a&LT;", "a&lt;"}, {"a&#65;", "a&#65;"}, {"a&amp", "a&amp"}, {"a`", "a`"}, {"a\\", "a\\"}, {"a@[`{", "a@[`{"},
		// Bytes that are no signs, other signs, and bytes that are like Spaces.
		{"a\xff", "a\xff"}, {"A\xc1\xe1\xdaZ", "a\xc1\xe1\xdaz"}, {"a\xe2\x82", "a\xe2\x82"}, {"a\u00c4\u212a\u0130", "a\u00c4\u212a\u0130"}, {"a\r", "a\r"}, {"a\r\v\x1f\x7fB", "a\r\v\x1f\x7fb"}, {"a\u00a0b", "a\u00a0b"}, {"a\u2003", "a\u2003"},
		{strings.Repeat("aB", 60), strings.Repeat("ab", 60)},
	} {
		checkTag(t, "<"+x.name+">", start(x.want, false))
		checkTag(t, "</"+x.name+">", end(x.want))
		checkTag(t, "<"+x.name+"/>", start(x.want, true))
		checkTag(t, "</"+x.name+"/>", end(x.want))
		for _, space := range spaces {
			checkTag(t, "<"+x.name+string(space)+">", start(x.want, false))
			checkTag(t, "<"+x.name+string(space)+"y=1>", start(x.want, false, "y", "1"))
			checkTag(t, "</"+x.name+string(space)+">", end(x.want))
			checkTag(t, "</"+x.name+string(space)+"y=1>", end(x.want))
		}
		for _, tag := range []string{"<" + x.name, "</" + x.name} {
			for _, behind := range []string{"", " ", "\n", "/", "//", " y", "/y", " y=", " y='>", " y=\">"} {
				checkOpen(t, tag+behind, 0)
				checkOpen(t, "<a>"+tag+behind, 3)
			}
		}
	}
}

func TestWhereNamesEnd(t *testing.T) {
	for _, c := range eachByte() {
		if strings.Contains(enders, c) {
			continue
		}
		checkTag(t, "<a"+c+">", start(told("a"+c), false))
		checkTag(t, "</a"+c+">", end(told("a"+c)))
		checkTag(t, "<a"+c+"B x>", start(told("a"+c+"B"), false, "x", ""))
		checkTag(t, "</a"+c+"B x>", end(told("a"+c+"B")))
	}
	for _, c := range notSpaces {
		checkTag(t, "<a"+c+"x=1>", start(told("a"+c+"x=1"), false))
	}
	for _, space := range spaces {
		c := string(space)
		checkTag(t, "<a"+c+"b>", start("a", false, "b", ""))
		checkTag(t, "<a"+c+"/>", start("a", true))
		checkTag(t, "<a"+c+"/"+c+">", start("a", false))
		checkTag(t, "<a"+c+"=b>", start("a", false, "=b", ""))
		checkTag(t, "<a"+c+c+">", start("a", false))
		checkTag(t, "</a"+c+"b>", end("a"))
		checkTag(t, "</a"+c+"/>", end("a"))
		checkTag(t, "</a"+c+"=b>", end("a"))
	}
	checkTag(t, "<a/b>", start("a", false, "b", ""))
	checkTag(t, "<a/=b>", start("a", false, "=b", ""))
	checkTag(t, "<a//>", start("a", true))
	checkTag(t, "<a/b/>", start("a", true, "b", ""))
	checkTag(t, "</a/b>", end("a"))
	checkTag(t, "<p/x>", start("p", false, "x", ""))
}

func TestStartTags(t *testing.T) {
	for _, x := range []struct {
		s    string
		want api.Token
	}{
		{"<a>", start("a", false)}, {"<A x>", start("a", false, "x", "")}, {"<a x y=1>", start("a", false, "x", "", "y", "1")}, {"<BR/>", start("br", true)}, {"<br />", start("br", true)}, {"<br / >", start("br", false)}, {"<br\n/\n/>", start("br", true)},
		{"<a x='<b>' y/>", start("a", true, "x", "<b>", "y", "")},
		{"<a x=1 Y='&lt;' z/>", start("a", true, "x", "1", "y", "<", "z", "")},
		{"<a x = \"1 > 2\"\ty>", start("a", false, "x", "1 > 2", "y", "")},
		// Of two of one name the first one is told.
		{"<a x=1 x=2>", start("a", false, "x", "1")}, {"<a x=1 X='>' y='3'/>", start("a", true, "x", "1", "y", "3")}, {"<a \x00=1 " + bad + "=2>", start("a", false, bad, "1")},
		// A name like its tag's is one of an attribute, too.
		{"<a a a>", start("a", false, "a", "")}, {"<a a=a/>", start("a", false, "a", "a/")},
		// A stroke that is part of a value closes nothing.
		{"<a x=1/>", start("a", false, "x", "1/")}, {"<a x=/>", start("a", false, "x", "/")}, {"<a x='1'/>", start("a", true, "x", "1")}, {"<a x=1 />", start("a", true, "x", "1")},
		// Values are read as an attribute's.
		{"<a href=?a=b&copy=1&lt>", start("a", false, "href", "?a=b&copy=1<")}, {"<a x='&notit;' y=&#128;>", start("a", false, "x", "&notit;", "y", "\u20ac")}, {"<a x='&#0;\x00'>", start("a", false, "x", bad+bad)},
		{"<a <b>", start("a", false, "<b", "")}, {"<a </a>", start("a", false, "<", "", "a", "")}, {"<a \"'>", start("a", false, "\"'", "")}, {"<a !--b-->", start("a", false, "!--b--", "")}, {"<a x=\xff\xe2>", start("a", false, "x", "\xff\xe2")},
	} {
		checkTag(t, x.s, x.want)
		// The same behind a stroke is an end tag, that ends there, too.
		checkTag(t, "</"+x.s[1:], end(x.want.Name))
	}
}

func TestEndTags(t *testing.T) {
	for _, behind := range []string{">", " >", "\t>", "\n>", "\f>", " \t\n\f>", "/>", "//>", " />", "/ >", " / / >", " x>", " x=1>", " x y=1/>", " x='>'>", "\n\nX=\">\" y='/>'/>", " x=1 x=2>", "/x>", "/x/>", " =>", " ==/>", " '>", " \"a b\">", " &lt;>", " <b>", " x=&copy=1>", " \x00=\xff>", " x=/>", " x='/'/>"} {
		for _, name := range []string{"a", "P", "TextArea", "h1", "a=b", "a\x00", "a<b", "a'"} {
			checkTag(t, "</"+name+behind, end(told(name)))
		}
	}
}

func TestTagsThatDoNotEnd(t *testing.T) {
	within := "Name\x00<\"= a=1\tB = \"x > y\"\nc='&lt;/>'d/e / ==\x00\xff a=2 \f\"'=&copy=1/ g=''/>"
	for _, begin := range []string{"<", "</"} {
		whole := begin + within
		for last := range whole {
			if last <= len(begin) {
				checkNone(t, whole[:last], 0)
				checkNone(t, "<p>"+whole[:last], 3)
				continue
			}
			checkOpen(t, whole[:last], 0)
			checkOpen(t, "<p>"+whole[:last], 3)
		}
		check(t, whole)
		for _, q := range []string{"'", "\""} {
			for _, open := range []string{"", ">", "/>", "a>", "</a>", " b=1>", strings.Repeat("<a>", 40), "\n\n>", "\x00>", strings.Trim("'\"", q) + ">"} {
				checkOpen(t, begin+"a x="+q+open, 0)
				checkOpen(t, begin+"a x = "+q+open, 0)
				checkOpen(t, begin+"a/y=1 x="+q+open, 0)
				checkOpen(t, begin+"a x="+q+q+"y="+q+open, 0)
				checkOpen(t, "<b>"+begin+"a x="+q+open, 3)
			}
		}
	}
	name := "name" + bad + "<\"="
	if got := gotRead("<"+within, 0); !same(got, read{start(name, true, "a", "1", "b", "x > y", "c", "</>", "d", "", "e", "", "=", bad+"\xff", "\"'", "&copy=1/", "g", ""), 1 + len(within), true}) {
		t.Error(show(got))
	}
	if got := gotRead("</"+within, 0); !same(got, read{end(name), 2 + len(within), true}) {
		t.Error(show(got))
	}
}

func TestTagsWithOthersAroundThem(t *testing.T) {
	s := "a < b<!--<i>--><P Class='x'>c</p >d<br/></q"
	check(t, s)
	for _, x := range []struct {
		part string
		want api.Token
	}{
		{"<i>", start("i", false)}, {"<P Class='x'>", start("p", false, "class", "x")}, {"</p >", end("p")}, {"<br/>", start("br", true)},
	} {
		at := strings.Index(s, x.part)
		if got := gotRead(s, at); !same(got, read{x.want, at + len(x.part), true}) {
			t.Errorf("%q: %s", x.part, show(got))
		}
	}
	var begins []int
	for at := range s {
		if Begins(s, at) {
			begins = append(begins, at)
		}
	}
	if want := []int{9, 15, 29, 35, 40}; !slices.Equal(begins, want) {
		t.Errorf("%q: tags begin at %d, want %d", s, begins, want)
	}
	checkNone(t, s, 2)
	checkNone(t, s, strings.Index(s, "<!--"))
	checkOpen(t, s, strings.Index(s, "</q"))
}

func TestAllShortTexts(t *testing.T) {
	bytes := eachByte()
	for _, ahead := range []string{"<", "</", "<a", "</a", "<a ", "</a/", "<a x=", ""} {
		for n := range 3 {
			eachText(bytes, n, func(s string) {
				checkAt(t, ahead+s, 0)
				checkAt(t, ahead+s+">", 0)
			})
		}
	}
	parts := []string{"<", "/", ">", "a", "Z", " ", "\n", "=", "'", "\"", "\x00", "\xff", "1", "!", "&lt;"}
	for n := range 4 {
		eachText(parts, n, func(s string) {
			check(t, s)
			check(t, s+">")
		})
	}
	for n := 4; n < 8; n++ {
		eachText([]string{"<", "/", ">", "a", " ", "'"}, n, func(s string) { checkAt(t, s, 0) })
	}
	eachText([]string{"<", "/", ">", "A", " ", "=", "\x00"}, 5, func(s string) { check(t, s) })
}

func TestLongTags(t *testing.T) {
	for _, part := range []string{"a", "A", "<", "</", "<a", "</a", "/", " ", ">", "=", "'", "\"", "\x00", "\xff", "a ", "a=1 ", "x='>'", "\r", "&lt;", "-", "1", "\u00e9"} {
		s := strings.Repeat(part, 20000)
		for _, begin := range []string{"<", "</", "<a", "</a", "<a ", "</a "} {
			for _, behind := range []string{"", ">", "/>", " a=1>", "'>", "\">"} {
				checkAt(t, begin+s+behind, 0)
				checkAt(t, s+begin+s+behind, len(s))
			}
		}
	}
	// One name of very many bytes, each of which is told otherwise than it stands there.
	const many = 1 << 20
	large := strings.Repeat("Q\x00", many)
	small := strings.Repeat("q"+bad, many)
	if got := gotRead("<"+large+"/>", 0); !same(got, read{start(small, true), 2*many + 3, true}) {
		t.Error(show(got))
	}
	if got := gotRead("</"+large+"/>", 0); !same(got, read{end(small), 2*many + 4, true}) {
		t.Error(show(got))
	}
	checkOpen(t, "<"+large, 0)
	checkOpen(t, "</"+large, 0)
}

func TestManyAttributes(t *testing.T) {
	const many = 50000
	var s strings.Builder
	s.WriteString("A")
	var want []api.Attr
	for k := range many {
		n := strconv.Itoa(k)
		s.WriteString(" X" + n + "=" + n + " x" + n + "='>'")
		want = append(want, api.Attr{Name: "x" + n, Value: n})
	}
	s.WriteString("/>")
	if got := gotRead("<"+s.String(), 0); !same(got, read{api.Token{Kind: 1, Name: "a", Attrs: want, Self: true}, 1 + s.Len(), true}) {
		t.Error(show(got))
	}
	if got := gotRead("</"+s.String(), 0); !same(got, read{end("a"), 2 + s.Len(), true}) {
		t.Error(show(got))
	}
	open := strings.TrimSuffix(s.String(), "/>")
	checkOpen(t, "<"+open, 0)
	checkOpen(t, "</"+open, 0)
}

func TestTheSameEachTime(t *testing.T) {
	for range 1000 {
		for _, s := range []string{"<a>", "</a>", "<a x/>", "</a x/>", "<//a>", "<", "</", "</>", "<a", "</a", "</<a>"} {
			checkAt(t, s, 0)
		}
	}
}

func TestWhatIsToldIsMemoryOfItsOwn(t *testing.T) {
	const s = "<a x=1 b='&lt;' c>"
	want := read{start("a", false, "x", "1", "b", "<", "c", ""), len(s), true}
	first, second := gotRead(s, 0), gotRead(s, 0)
	for k := range first.t.Attrs {
		first.t.Attrs[k] = api.Attr{Name: "y", Value: "z"}
	}
	_ = append(first.t.Attrs[:1], list("z", "z")...)
	if third := gotRead(s, 0); !same(second, want) || !same(third, want) {
		t.Errorf("%s, %s", show(second), show(third))
	}
	// What stood in another tag ahead is nothing to it.
	if got := gotRead("<a x=2>", 0); !same(got, read{start("a", false, "x", "2"), 7, true}) {
		t.Error(show(got))
	}
}

func FuzzTag(f *testing.F) {
	for _, s := range []string{"", "<", "</", "<a>", "</a>", "<A x>", "</p >", "x<BR/>", "<a x='<b>' y/>", "</a x y=1/>", "<a1-\x00:>", "<a<b>", "<//a>", "</>", "<a x='>", "<p/x>"} {
		f.Add(s, 0)
		f.Add(s, 1)
	}
	f.Fuzz(func(t *testing.T, s string, at int) {
		checkAt(t, s, at)
		check(t, s[:min(len(s), 200)])
	})
}
