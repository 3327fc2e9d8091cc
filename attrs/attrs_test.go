package attrs

import (
	"math"
	"slices"
	"strconv"
	"strings"
	"testing"

	"flail/api"
	"flail/ref"
)

// bad is the sign 65533 by its bytes, so that the tests hang on no other package's word for it.
const bad = "\xef\xbf\xbd"

// spaces is the four Spaces.
const spaces = "\t\n\f "

// notSpaces is bytes that are like them, but none.
var notSpaces = []string{"\x00", "\x01", "\b", "\v", "\r", "\x0e", "\x1f", "\x7f", "\x85", "\xa0", "\u00a0", "\u2003"}

// list is attributes, of names and values in turn.
func list(of ...string) []api.Attr {
	var told []api.Attr
	for k := 0; k < len(of); k += 2 {
		told = append(told, api.Attr{Name: of[k], Value: of[k+1]})
	}
	return told
}

// read is what Read tells, so that two of them can be held against each other.
type read struct {
	l    []api.Attr
	self bool
	next int
	ok   bool
}

// same tells whether a and b are alike; an empty list is one like none.
func same(a, b read) bool {
	return slices.Equal(a.l, b.l) && a.self == b.self && a.next == b.next && a.ok == b.ok
}

// gotRead is what Read tells.
func gotRead(s string, at int) read {
	l, self, next, ok := Read(s, at)
	return read{l, self, next, ok}
}

// isSpace tells whether c is one of the four.
func isSpace(c byte) bool { return strings.IndexByte(spaces, c) >= 0 }

// lower is s in small letters, byte by byte.
func lower(s string) string {
	b := []byte(s)
	for k, c := range b {
		if n := strings.IndexByte("ABCDEFGHIJKLMNOPQRSTUVWXYZ", c); n >= 0 {
			b[k] = "abcdefghijklmnopqrstuvwxyz"[n]
		}
	}
	return string(b)
}

// machine reads attributes byte by byte: what a byte means hangs on the step that it is read in.
type machine struct {
	name, value []byte
	told        []api.Attr
	step        func(m *machine, c byte)
	self, ended bool
}

// keep ends an attribute.
func (m *machine) keep() {
	a := api.Attr{Name: strings.ReplaceAll(lower(string(m.name)), "\x00", bad), Value: strings.ReplaceAll(ref.Decode(string(m.value), true), "\x00", bad)}
	if !slices.ContainsFunc(m.told, func(b api.Attr) bool { return a.Name == b.Name }) {
		m.told = append(m.told, a)
	}
	m.name, m.value = nil, nil
}

// between is the step between attributes.
func between(m *machine, c byte) {
	switch {
	case isSpace(c):
	case c == '/':
		m.step = afterStroke
	case c == '>':
		m.ended = true
	default:
		m.name = append(m.name, c)
		m.step = inTheName
	}
}

// afterStroke is the step behind a stroke.
func afterStroke(m *machine, c byte) {
	m.self = c == '>'
	m.step = between
	between(m, c)
}

// inTheName is the step within a name, behind its first byte.
func inTheName(m *machine, c byte) {
	switch {
	case isSpace(c) || c == '/' || c == '>' || c == '=':
		m.step = afterName
		afterName(m, c)
	default:
		m.name = append(m.name, c)
	}
}

// afterName is the step behind a name, and Spaces.
func afterName(m *machine, c byte) {
	switch {
	case isSpace(c):
	case c == '=':
		m.step = beforeValue
	default:
		m.keep()
		m.step = between
		between(m, c)
	}
}

// beforeValue is the step behind an equals sign, and Spaces.
func beforeValue(m *machine, c byte) {
	switch {
	case isSpace(c):
	case c == '"' || c == '\'':
		m.step = func(m *machine, d byte) {
			if d != c {
				m.value = append(m.value, d)
				return
			}
			m.keep()
			m.step = between
		}
	default:
		m.step = inTheValue
		inTheValue(m, c)
	}
}

// inTheValue is the step within a value without quotes.
func inTheValue(m *machine, c byte) {
	if !isSpace(c) && c != '>' {
		m.value = append(m.value, c)
		return
	}
	m.keep()
	m.step = between
	between(m, c)
}

// wantRead is what the chapter asks of Read.
func wantRead(s string, at int) read {
	if at < 0 || at > len(s) {
		return read{next: at}
	}
	m := &machine{step: between}
	for k := at; k < len(s); k++ {
		m.step(m, s[k])
		if m.ended {
			return read{m.told, m.self, k + 1, true}
		}
	}
	return read{next: len(s)}
}

// short is s, or so much of it as a failing test may tell.
func short(s string) string {
	if len(s) > 100 {
		return s[:100] + ".."
	}
	return s
}

// checkAt checks Read at one place of s, and what follows of it (P8.2).
func checkAt(t *testing.T, s string, at int) {
	t.Helper()
	got, want := gotRead(s, at), wantRead(s, at)
	if !same(got, want) {
		t.Errorf("Read(%q, %d): %q, %t, %d, %t, want %q, %t, %d, %t", short(s), at, got.l[:min(len(got.l), 9)], got.self, got.next, got.ok, want.l[:min(len(want.l), 9)], want.self, want.next, want.ok)
		return
	}
	if got.ok && !strings.HasSuffix(s[at:got.next], ">") || got.self && !strings.HasSuffix(s[at:got.next], "/>") {
		t.Errorf("Read(%q, %d): %t, %d, %t: another end", short(s), at, got.self, got.next, got.ok)
	}
	seen := map[string]bool{}
	for _, a := range got.l {
		if seen[a.Name] || a.Name == "" {
			t.Errorf("Read(%q, %d): the name %q", short(s), at, short(a.Name))
		}
		seen[a.Name] = true
	}
}

// farAway is places that no text has.
func farAway() []int {
	return []int{math.MinInt, math.MinInt + 1, math.MinInt32, -1 << 32, -1<<32 + 1, -33, 1 << 31, 1 << 32, 1<<32 + 1, math.MaxInt - 1, math.MaxInt}
}

// check checks Read at each place of s, and beside them.
func check(t *testing.T, s string) {
	t.Helper()
	for at := -2; at <= len(s)+2; at++ {
		checkAt(t, s, at)
	}
	for _, at := range farAway() {
		checkAt(t, s, at)
	}
}

// eachText hands all texts of n of those parts to see.
func eachText(of []string, n int, see func(string)) {
	if n == 0 {
		see("")
		return
	}
	eachText(of, n-1, func(ahead string) {
		for _, part := range of {
			see(ahead + part)
		}
	})
}

// eachByte is each byte, as a text of its own.
func eachByte() []string {
	var told []string
	for c := range 256 {
		told = append(told, string([]byte{byte(c)}))
	}
	return told
}

// tag is what is to be read of a tag that ends with its text.
type tag struct {
	s    string
	want []api.Attr
	self bool
}

// checkTags checks each tag, behind other bytes too, with others behind it, and with each of its bytes as its last one: none of these ends, as no bracket stands there that ends it.
func checkTags(t *testing.T, tags []tag) {
	t.Helper()
	for _, x := range tags {
		want := read{x.want, x.self, len(x.s), true}
		for _, behind := range []string{"", ">", "/>", " b=2>", "\"'"} {
			if got := gotRead(x.s+behind, 0); !same(got, want) {
				t.Errorf("Read(%q, 0): %q, %t, %d, %t, want %q, %t", x.s+behind, got.l, got.self, got.next, got.ok, x.want, x.self)
			}
		}
		for _, ahead := range []string{"<a", "<x y='>", ">", "\xff\x00"} {
			want.next = len(ahead + x.s)
			if got := gotRead(ahead+x.s, len(ahead)); !same(got, want) {
				t.Errorf("Read(%q, %d): %q, %t, %d, %t, want %q, %t", ahead+x.s, len(ahead), got.l, got.self, got.next, got.ok, x.want, x.self)
			}
		}
		for end := range x.s {
			checkNoTag(t, x.s[:end], 0)
		}
		check(t, x.s)
	}
}

// checkNoTag checks that no tag ends in s from a place on.
func checkNoTag(t *testing.T, s string, at int) {
	t.Helper()
	if got := gotRead(s, at); !same(got, read{next: len(s)}) {
		t.Errorf("Read(%q, %d): %q, %t, %d, %t, though it doesn't end", short(s), at, got.l, got.self, got.next, got.ok)
	}
}

func TestPlacesThatAreNotThere(t *testing.T) {
	for _, s := range []string{"", ">", "/>", "a>", " a=1 b='2'/>", "a", "\x00", "\xff>"} {
		for _, at := range append(farAway(), -3, -2, -1, len(s)+1, len(s)+2, len(s)+3) {
			if got := gotRead(s, at); !same(got, read{next: at}) {
				t.Errorf("Read(%q, %d): %q, %t, %d, %t", s, at, got.l, got.self, got.next, got.ok)
			}
		}
		checkNoTag(t, s, len(s))
	}
}

func TestHowTagsEnd(t *testing.T) {
	checkTags(t, []tag{
		{">", nil, false}, {"/>", nil, true}, {" >", nil, false}, {" \t\n\f>", nil, false}, {" />", nil, true}, {"//>", nil, true}, {"///>", nil, true},
		// A stroke with something else behind it is passed over.
		{"/ >", nil, false}, {" / >", nil, false}, {"/ />", nil, true}, {"/\n/\t/>", nil, true}, {"/a>", list("a", ""), false}, {"/a/>", list("a", ""), true}, {"/=>", list("=", ""), false}, {"/\">", list("\"", ""), false}, {"/\x00>", list(bad, ""), false},
		// Strokes between attributes, and within names.
		{"a/b>", list("a", "", "b", ""), false}, {"a//b>", list("a", "", "b", ""), false}, {"a / b>", list("a", "", "b", ""), false}, {"a/ b/>", list("a", "", "b", ""), true}, {"a/b/c=1/>", list("a", "", "b", "", "c", "1/"), false}, {"a='1'/b>", list("a", "1", "b", ""), false}, {"a=\"1\"//b/>", list("a", "1", "b", ""), true}, {"a/=1>", list("a", "", "=1", ""), false}, {"a /=1>", list("a", "", "=1", ""), false}, {"a/=b=1>", list("a", "", "=b", "1"), false}, {"a/\"b\">", list("a", "", "\"b\"", ""), false},
		// It closes itself where the stroke is no part of a value.
		{"a/>", list("a", ""), true}, {"a />", list("a", ""), true}, {"a/ >", list("a", ""), false}, {"a=1/>", list("a", "1/"), false}, {"a=1 />", list("a", "1"), true}, {"a='1'/>", list("a", "1"), true}, {"a=/>", list("a", "/"), false}, {"a= />", list("a", "/"), false}, {"a=''/>", list("a", ""), true}, {"a=\"/\">", list("a", "/"), false}, {"=/>", list("=", ""), true},
	})
	for _, s := range []string{"", "/", " ", " /", "//", "a", "a/", "a /", "a=1/", "a='1'/", "a='1'", "/ "} {
		checkNoTag(t, s, 0)
		checkNoTag(t, "/>"+s, 2)
	}
}

func TestSpaces(t *testing.T) {
	for _, c := range spaces {
		for _, d := range spaces {
			sp := string([]rune{c, d})
			checkTags(t, []tag{
				{sp + ">", nil, false},
				{sp + "/>", nil, true},
				{sp + "a>", list("a", ""), false},
				{"a" + sp + ">", list("a", ""), false},
				{"a" + sp + "/>", list("a", ""), true},
				{"a" + sp + "b>", list("a", "", "b", ""), false},
				{"a" + sp + "=1>", list("a", "1"), false},
				{"a=" + sp + "1>", list("a", "1"), false},
				{"a=" + sp + "'1'>", list("a", "1"), false},
				{"a=" + sp + "\"1\">", list("a", "1"), false},
				{"a=" + sp + "=>", list("a", "="), false},
				{"a=" + sp + ">", list("a", ""), false},
				{"a=" + sp + "b=1>", list("a", "b=1"), false},
				{"a=1" + sp + ">", list("a", "1"), false},
				{"a=1" + sp + "/>", list("a", "1"), true},
				{"a=1" + sp + "b>", list("a", "1", "b", ""), false},
				{"a=1" + sp + "=b>", list("a", "1", "=b", ""), false},
				{"a='1'" + sp + "b>", list("a", "1", "b", ""), false},
				{"a='" + sp + "'>", list("a", sp), false},
				{"a=\"" + sp + "1" + sp + "\">", list("a", sp+"1"+sp), false},
				{"/" + sp + ">", nil, false},
				{sp + "a" + sp + "=" + sp + "1" + sp + "b" + sp + "=" + sp + "'2'" + sp + "/" + sp + ">", list("a", "1", "b", "2"), false},
			})
		}
	}
	// What is like a Space, but none, is part of a name, or a value.
	for _, c := range notSpaces {
		told := strings.ReplaceAll(c, "\x00", bad)
		checkTags(t, []tag{
			{c + ">", list(told, ""), false},
			{"a" + c + "b>", list("a"+told+"b", ""), false},
			{"a" + c + "=1>", list("a"+told, "1"), false},
			{"a=" + c + "1>", list("a", told+"1"), false},
			{"a=" + c + "'1'>", list("a", told+"'1'"), false},
			{"a=1" + c + "b>", list("a", "1"+told+"b"), false},
			{"a='1'" + c + "b>", list("a", "1", told+"b", ""), false},
			{"a=" + c + ">", list("a", told), false},
		})
	}
}

func TestNames(t *testing.T) {
	checkTags(t, []tag{
		{"a>", list("a", ""), false}, {"abc def>", list("abc", "", "def", ""), false},
		// An equals sign at a name's beginning, and two of them.
		{"=>", list("=", ""), false}, {"=a>", list("=a", ""), false}, {"==>", list("=", ""), false}, {"==a>", list("=", "a"), false}, {"===>", list("=", "="), false}, {"=a=b>", list("=a", "b"), false}, {"= =>", list("=", ""), false}, {"= = =>", list("=", "="), false}, {"a==>", list("a", "="), false}, {"a= =>", list("a", "="), false}, {"a==b>", list("a", "=b"), false}, {"a = = b>", list("a", "=", "b", ""), false}, {"a='1'=b>", list("a", "1", "=b", ""), false}, {"a='1'='2'>", list("a", "1", "='2'", ""), false}, {"a=1 = b>", list("a", "1", "=", "", "b", ""), false},
		// Signs in names, and letters.
		{"\">", list("\"", ""), false}, {"'>", list("'", ""), false}, {"\"a\">", list("\"a\"", ""), false}, {"a\"b=1>", list("a\"b", "1"), false}, {"'a b'>", list("'a", "", "b'", ""), false}, {"\"a>", list("\"a", ""), false}, {"<>", list("<", ""), false}, {"a<b>", list("a<b", ""), false}, {"<a b>", list("<a", "", "b", ""), false}, {"!--a-->", list("!--a--", ""), false}, {"a-b_c:d.e@f[g]{h}`i?>", list("a-b_c:d.e@f[g]{h}`i?", ""), false},
		{"ABCxyzXYZ>", list("abcxyzxyz", ""), false}, {"AZ@[`{=AZ@[`{>", list("az@[`{", "AZ@[`{"), false},
		// References stay as they are in names.
		{"&lt;>", list("&lt;", ""), false}, {"&amp=1>", list("&amp", "1"), false}, {"&#65;A>", list("&#65;a", ""), false}, {"&AMP;>", list("&amp;", ""), false},
		// The byte 0, its sign, line ends, and bytes that are no signs.
		{"\x00>", list(bad, ""), false}, {"a\x00b\x00>", list("a"+bad+"b"+bad, ""), false}, {"a" + bad + ">", list("a"+bad, ""), false}, {"\x00=\x00>", list(bad, bad), false}, {"a\r\nb\rc>", list("a\r", "", "b\rc", ""), false},
		{"\xff>", list("\xff", ""), false}, {"A\xc3\x28\xe2\x82=1>", list("a\xc3\x28\xe2\x82", "1"), false}, {"\u00c4\u212a\u0130>", list("\u00c4\u212a\u0130", ""), false}, {"\xc1\xe1=\xc1>", list("\xc1\xe1", "\xc1"), false},
	})
	for _, s := range []string{"a", "abc", "=", "==", " a", "a b", "\"", "<", "\x00", "a\xff"} {
		checkNoTag(t, s, 0)
		checkNoTag(t, "a=1>"+s, 4)
	}
}

func TestValuesInQuotes(t *testing.T) {
	for _, q := range []string{"\"", "'"} {
		other := strings.Trim("\"'", q)
		for _, within := range []string{"", "1", other, other + other, " ", " x y ", ">", "/", "/>", "=", "a=1", "<b>", "-->", "\t\n\f\r", bad, "\xff\xe2\x82", "ABC", other + "b" + other + ">", " b=" + other, strings.Repeat(other+">/= ", 50)} {
			checkTags(t, []tag{
				{"a=" + q + within + q + ">", list("a", within), false},
				{"a=" + q + within + q + "/>", list("a", within), true},
				{"a = " + q + within + q + " >", list("a", within), false},
				{" a=" + q + within + q + "b>", list("a", within, "b", ""), false},
				{"a=" + q + within + q + "B=" + q + within + q + ">", list("a", within, "b", within), false},
				{"a=" + q + within + q + q + ">", list("a", within, q, ""), false},
				{"a=" + q + within + q + other + ">", list("a", within, other, ""), false},
				{"a=" + q + within + q + "=1>", list("a", within, "=1", ""), false},
				{"a=" + q + within + q + "/b=" + other + "2" + other + "/>", list("a", within, "b", "2"), true},
			})
			for _, behind := range []string{"", ">", "/>", " b=1>", other, other + ">"} {
				checkNoTag(t, "a="+q+within+behind, 0)
				checkNoTag(t, "a=1 b = "+q+within+behind, 0)
				checkNoTag(t, "a="+q+q+"b="+q+within+behind, 0)
			}
			checkNoTag(t, "a="+q+within+q, 0)
		}
		checkTags(t, []tag{
			{"a=" + q + "\x00b\x00" + q + ">", list("a", bad+"b"+bad), false},
			{"a" + q + "=" + q + "1" + q + ">", list("a"+q, "1"), false},
			{"a=" + q + "1" + q + "\x00>", list("a", "1", bad, ""), false},
			{"a=" + q + "1" + q + "<b>", list("a", "1", "<b", ""), false},
		})
	}
}

func TestValuesWithoutQuotes(t *testing.T) {
	for _, value := range []string{"1", "abc", "ABC", "/", "//", "/x/", "x/", "=", "==", "a=b", "x\"", "x'", "x\"y\"z", "x'y'", "<", "<b", "`x`", "a,b;c", bad, "\xff", "\xe2\x82", "\u00e9", "\r", "x\v\ry", "http://a/?b=c", "!--"} {
		checkTags(t, []tag{
			{"a=" + value + ">", list("a", value), false},
			{"a=" + value + "/>", list("a", value+"/"), false},
			{"a=" + value + " />", list("a", value), true},
			{"a=" + value + " b>", list("a", value, "b", ""), false},
			{"a=" + value + "\nb=" + value + "\f>", list("a", value, "b", value), false},
			{"a = " + value + "\t/b>", list("a", value, "b", ""), false},
		})
		for _, behind := range []string{"", " ", " b", "/", "\"", "'"} {
			checkNoTag(t, "a="+value+behind, 0)
		}
	}
	checkTags(t, []tag{
		{"a=\x00>", list("a", bad), false}, {"a=1\x002\x00 b=\x00\x00>", list("a", "1"+bad+"2"+bad, "b", bad+bad), false},
		// An equals sign without a value, and a name without an equals sign.
		{"a=>", list("a", ""), false}, {"a =>", list("a", ""), false}, {"a= >", list("a", ""), false}, {"a = >", list("a", ""), false}, {"a=1 b=>", list("a", "1", "b", ""), false}, {"a= b>", list("a", "b"), false}, {"a>", list("a", ""), false}, {"a b c>", list("a", "", "b", "", "c", ""), false}, {"a b=1 c>", list("a", "", "b", "1", "c", ""), false}, {"a b = c>", list("a", "", "b", "c"), false},
	})
	for _, s := range []string{"a=", "a =", "a= ", "a = ", "a b=", "a=1 b="} {
		checkNoTag(t, s, 0)
	}
}

func TestReferencesInValues(t *testing.T) {
	for _, x := range []struct{ raw, want string }{
		{"&lt;", "<"}, {"&lt", "<"}, {"b&lt;c", "b<c"}, {"&amp;", "&"}, {"&amp;lt;", "&lt;"}, {"&amp;amp;", "&amp;"}, {"&", "&"}, {"&&", "&&"}, {"&;", "&;"}, {"&nosuch;", "&nosuch;"}, {"&notin;", "\u2209"}, {"&NotEqualTilde;", "\u2242\u0338"},
		// A short name, with =, a letter, a digit, or something else behind it.
		{"&copy=1", "&copy=1"}, {"&copy=", "&copy="}, {"&copya", "&copya"}, {"&copyZ", "&copyZ"}, {"&copy1", "&copy1"}, {"&copy9", "&copy9"}, {"&copy;=1", "\u00a9=1"}, {"&copy;a", "\u00a9a"}, {"&copy", "\u00a9"}, {"&copy-", "\u00a9-"}, {"&copy/", "\u00a9/"}, {"&copy&copy", "\u00a9\u00a9"}, {"&copy\x00", "\u00a9" + bad}, {"&copy\xff", "\u00a9\xff"}, {"?a=b&copy=1&lt", "?a=b&copy=1<"}, {"&notit;", "&notit;"}, {"&not", "\u00ac"}, {"&not-it;", "\u00ac-it;"},
		// Numbers.
		{"&#65;", "A"}, {"&#65", "A"}, {"&#65=", "A="}, {"&#65a", "Aa"}, {"&#x41;", "A"}, {"&#X4a;", "J"}, {"&#128;", "\u20ac"}, {"&#0;", bad}, {"&#xD800;", bad}, {"&#99999999999999999999;", bad}, {"&#;", "&#;"}, {"&#x;", "&#x;"},
		// What they tell ends no value, and no tag.
		{"&quot;", "\""}, {"&apos;", "'"}, {"&#34;&#39;", "\"'"}, {"&gt;", ">"}, {"&#62;/&gt;", ">/>"}, {"&#32;", " "}, {"&#32;b=1", " b=1"}, {"&Tab;&NewLine;", "\t\n"}, {"&#13;", "\r"}, {"&#47;&gt;", "/>"}, {"&#61;", "="},
	} {
		checkTags(t, []tag{
			{"a=" + x.raw + ">", list("a", x.want), false},
			{"a=" + x.raw + " >", list("a", x.want), false},
			{"a=" + x.raw + " b='2'>", list("a", x.want, "b", "2"), false},
			{"a='" + x.raw + "'>", list("a", x.want), false},
			{"a=\"" + x.raw + "\"/>", list("a", x.want), true},
			{"a='" + x.raw + "'b=\"" + x.raw + "\">", list("a", x.want, "b", x.want), false},
			// What stands behind a value is no part of it: a short name at its end is read.
			{"a='" + x.raw + "'=1>", list("a", x.want, "=1", ""), false},
		})
	}
	// With what stands between quotes all of a text is read that way.
	for _, c := range eachByte() {
		checkAt(t, "a='&copy"+c+"b'>", 0)
		checkAt(t, "a=\"&copy"+c+"\">", 0)
		checkAt(t, "a=&copy"+c+">", 0)
		checkAt(t, "a='&#65"+c+"'>", 0)
	}
}

func TestNamesThatAreAlike(t *testing.T) {
	checkTags(t, []tag{
		{"a a>", list("a", ""), false}, {"a=1 a=2>", list("a", "1"), false}, {"a=1 A=2>", list("a", "1"), false}, {"A=1 a=2>", list("a", "1"), false}, {"a a=2>", list("a", ""), false}, {"a=1 a>", list("a", "1"), false}, {"a='' a='2'>", list("a", ""), false}, {"a='1'a='2'a=3 A>", list("a", "1"), false}, {"a/a/>", list("a", ""), true}, {"=a/=A>", list("=a", ""), false}, {"=a =A>", list("=a", "A"), false}, {"a=1 a=1>", list("a", "1"), false},
		// The byte 0, and its sign.
		{"\x00=1 " + bad + "=2>", list(bad, "1"), false}, {bad + "=1 \x00=2>", list(bad, "1"), false}, {"\x00=1 \x00=2>", list(bad, "1"), false}, {"aB\x00=1 Ab" + bad + "=2>", list("ab"+bad, "1"), false},
		// Others stay in their places.
		{"a=1 b=2 a=3 c=4>", list("a", "1", "b", "2", "c", "4"), false}, {"b=1 a=2 B=3 A=4 c b a />", list("b", "1", "a", "2", "c", ""), true}, {"z y x y z>", list("z", "", "y", "", "x", ""), false},
		// One that is left out is read, too: it ends where it ends.
		{"a=1 a='>' b=2>", list("a", "1", "b", "2"), false}, {"a=1 a=2/>", list("a", "1"), false}, {"a=1 a='2'/>", list("a", "1"), true},
		// Names that are like each other, but not alike.
		{"a aa a- -a>", list("a", "", "aa", "", "a-", "", "-a", ""), false}, {"\u00c4 \u00e4>", list("\u00c4", "", "\u00e4", ""), false}, {"k \u212a>", list("k", "", "\u212a", ""), false}, {"\xff \xfe " + bad + ">", list("\xff", "", "\xfe", "", bad, ""), false}, {"&lt; <>", list("&lt;", "", "<", ""), false}, {"a a\x00>", list("a", "", "a"+bad, ""), false}, {"@ ` [ {>", list("@", "", "`", "", "[", "", "{", ""), false}, {"a\r a>", list("a\r", "", "a", ""), false},
	})
	checkNoTag(t, "a=1 a='2>", 0)
	for _, c := range eachByte() {
		for _, d := range eachByte() {
			checkAt(t, "x"+c+"=1 x"+d+"=2>", 0)
		}
	}
}

func TestTagsThatDoNotEnd(t *testing.T) {
	whole := " a=1\tB = \"x > y\"\nc='&lt;/>'d/e / ==\x00\xff a=2 \f\"'=&copy=1/ g=''/>"
	for end := range whole {
		checkNoTag(t, whole[:end], 0)
		checkNoTag(t, "<p>"+whole[:end], 3)
	}
	want := read{list("a", "1", "b", "x > y", "c", "</>", "d", "", "e", "", "=", bad+"\xff", "\"'", "&copy=1/", "g", ""), true, len(whole), true}
	if got := gotRead(whole, 0); !same(got, want) {
		t.Errorf("Read(%q, 0): %q, %t, %d, %t", whole, got.l, got.self, got.next, got.ok)
	}
	check(t, whole)
}

func TestAllShortTexts(t *testing.T) {
	for n := range 3 {
		eachText(eachByte(), n, func(s string) {
			for _, ahead := range []string{"", "a", "a=", "a='", "a=1", "a=''", "/"} {
				checkAt(t, ahead+s+">", 0)
				checkAt(t, ahead+s, 0)
			}
		})
	}
	for n := range 4 {
		eachText([]string{" ", "\n", "/", ">", "=", "\"", "'", "a", "A", "b", "\x00", "<", "&lt", "&amp;", "\xff"}, n, func(s string) {
			check(t, s)
			check(t, s+">")
		})
	}
	for n := 4; n < 8; n++ {
		eachText([]string{" ", "/", ">", "=", "'", "a"}, n, func(s string) { checkAt(t, s+">", 0) })
	}
	eachText([]string{" ", "/", ">", "=", "\"", "'", "a", "\x00"}, 5, func(s string) { check(t, s) })
}

func TestLongTags(t *testing.T) {
	for _, part := range []string{" ", "/", "=", "\"", "'", "a", "a ", "a=1 ", "a='1'", "a=\"&amp;\"", "==", "= ", "/=", "a/", "a=/ ", "\x00", "\xff ", "<", "&lt;", "x='>'", "\n\t\f "} {
		s := strings.Repeat(part, 20000)
		for _, behind := range []string{"", ">", "/>", " a=1>", "'>", "\">"} {
			checkAt(t, s+behind, 0)
			checkAt(t, "a="+s+behind, 0)
			checkAt(t, "a='"+s+behind, 0)
			checkAt(t, s+behind+s, len(s)/2)
		}
	}
}

func TestManyAttributes(t *testing.T) {
	const many = 200000
	var tag strings.Builder
	for k := range many {
		n := strconv.Itoa(k)
		tag.WriteString(" a" + n + "=" + n + " A" + n + "='x'")
	}
	tag.WriteString("/>")
	got := gotRead(tag.String(), 0)
	if len(got.l) != many || !got.self || got.next != tag.Len() || !got.ok {
		t.Fatalf("%d attributes, %t, %d, %t", len(got.l), got.self, got.next, got.ok)
	}
	for k, a := range got.l {
		if n := strconv.Itoa(k); a.Name != "a"+n || a.Value != n {
			t.Fatalf("attribute %d: %q", k, a)
		}
	}
	checkNoTag(t, strings.TrimSuffix(tag.String(), "/>"), 0)
}

func TestWhatIsToldIsMemoryOfItsOwn(t *testing.T) {
	const s = " a=1 b='&lt;' c>"
	want := read{list("a", "1", "b", "<", "c", ""), false, len(s), true}
	first := gotRead(s, 0)
	second := gotRead(s, 0)
	for k := range first.l {
		first.l[k] = api.Attr{Name: "x", Value: "y"}
	}
	_ = append(first.l[:1], list("z", "z")...)
	if third := gotRead(s, 0); !same(second, want) || !same(third, want) {
		t.Errorf("%q, %q", second.l, third.l)
	}
	// What stood ahead of it in another tag is nothing to it.
	if got := gotRead("a=2>", 0); !same(got, read{list("a", "2"), false, 4, true}) {
		t.Errorf("%q", got.l)
	}
}

func FuzzAttrs(f *testing.F) {
	for _, s := range []string{"", ">", " x=1 Y='&lt;' z/>", "a=1 A=2>", "a = \"x y\"b='>'/>", "=a=b>", "a='b", "a=&copy=1 b='&copy'>", "\"<'\x00>", "a=b/>"} {
		f.Add(s, 0)
		f.Add(s, 1)
	}
	f.Fuzz(func(t *testing.T, s string, at int) {
		checkAt(t, s, at)
		check(t, s[:min(len(s), 200)])
	})
}
