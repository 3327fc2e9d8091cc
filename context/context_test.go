package context

import (
	"math"
	"math/rand/v2"
	"slices"
	"strconv"
	"strings"
	"sync"
	"testing"
	"unicode/utf8"
	"unsafe"

	"flail/api"
	"flail/drive"
	"flail/escape"
	"flail/extract"
	"flail/lines"
	"flail/ref"
	"flail/sanitize"
)

const (
	bad  = "\xef\xbf\xbd"
	mark = "\xef\xbb\xbf"
)

var (
	dests    = []int{api.ToText, api.ToAttr, api.ToRcdata}
	both     = []bool{false, true}
	nowheres = []int{-1, 3, -2, -3, 4, 5, 6, 7, 10, 255, 256, 257, 258, -254, -255, -256, math.MaxInt32, math.MinInt32, 1 << 32, 1<<32 + 1, 1<<32 + 2, math.MaxInt, math.MinInt, math.MinInt + 1, math.MinInt + 2}
)

// short is s, or so much of it as a failing test may tell.
func short(s string) string {
	if len(s) > 200 {
		return strconv.Quote(s[:200]) + ".."
	}
	return strconv.Quote(s)
}

// turned is s with each kind of quotes in the other's place.
func turned(s string) string {
	return strings.NewReplacer("'", "\"", "\"", "'").Replace(s)
}

// wrapped is P23.1, byte by byte.
func wrapped(dest int, single bool, s string) string {
	var b []byte
	switch {
	case dest == 0:
		b = append(b, s...)
	case dest == 1 && single:
		b = append(append(append(b, 60, 97, 32, 120, 61, 39), s...), 39, 62)
	case dest == 1:
		b = append(append(append(b, 60, 97, 32, 120, 61, 34), s...), 34, 62)
	case dest == 2:
		b = append(append(append(b, "<textarea>"...), s...), "</textarea>"...)
	}
	return string(b)
}

// same tells whether two lists of tokens are the same.
func same(a, b []api.Token) bool {
	return slices.EqualFunc(a, b, func(x, y api.Token) bool {
		return x.Kind == y.Kind && x.Name == y.Name && x.Text == y.Text && x.Self == y.Self && slices.Equal(x.Attrs, y.Attrs)
	})
}

// judged is P23.2: what pieces say that are just those that the list names. It makes what they would be, and holds all of them against that.
func judged(dest int, l []api.Token) (string, bool) {
	var texts []string
	for _, t := range l {
		if t.Kind == api.Text {
			texts = append(texts, t.Text)
		}
	}
	says := strings.Join(texts, "")
	var want []api.Token
	if says != "" {
		want = []api.Token{{Kind: api.Text, Text: says}}
	}
	switch dest {
	case api.ToAttr:
		if len(l) > 0 && len(l[0].Attrs) > 0 {
			says = l[0].Attrs[0].Value
		}
		want = []api.Token{{Kind: api.Start, Name: "a", Attrs: []api.Attr{{Name: "x", Value: says}}}}
	case api.ToRcdata:
		want = slices.Concat([]api.Token{{Kind: api.Start, Name: "textarea"}}, want, []api.Token{{Kind: api.End, Name: "textarea"}})
		if says != "" && says[0] == 10 {
			says = says[1:]
		}
	}
	if !same(l, want) {
		return "", false
	}
	return says, true
}

// plain tells what is read of texts that have nothing that could mark up, and whether s is one: then it needs no pieces to know it.
func plain(dest int, single bool, s string) (data string, ok bool) {
	s = lines.Norm(s)
	quote := "\""
	if single {
		quote = "'"
	}
	switch dest {
	case api.ToText:
		return ref.Decode(s, false), !strings.Contains(s, "<")
	case api.ToAttr:
		return lines.Clean(ref.Decode(s, true)), !strings.Contains(s, quote)
	}
	return strings.TrimPrefix(lines.Clean(ref.Decode(s, false)), "\n"), !strings.Contains(strings.ToLower(s), "</textarea")
}

// shares tells whether two texts have memory in common.
func shares(a, b string) bool {
	if a == "" || b == "" {
		return false
	}
	x, y := uintptr(unsafe.Pointer(unsafe.StringData(a))), uintptr(unsafe.Pointer(unsafe.StringData(b)))
	return x < y+uintptr(len(b)) && y < x+uintptr(len(a))
}

// checkAt holds what is laid about s, and what is read of that, against the chapter, and tells whether s is data.
func checkAt(t *testing.T, dest int, single bool, s string) bool {
	t.Helper()
	in := Wrap(dest, single, s)
	if want := wrapped(dest, single, s); in != want {
		t.Errorf("%d, %t, %s: wrapped %s, want %s", dest, single, short(s), short(in), short(want))
	}
	data, ok := Parse(dest, single, s)
	if want, is := judged(dest, drive.Drive(lines.Norm(in))); data != want || ok != is {
		t.Errorf("%d, %t, %s: %s, %t, want %s, %t", dest, single, short(s), short(data), ok, short(want), is)
	}
	if want, is := plain(dest, single, s); is && (!ok || data != want) {
		t.Errorf("%d, %t, %s: %s, %t, want %s, as of what marks up nothing", dest, single, short(s), short(data), ok, short(want))
	}
	if shares(s, in) || shares(s, data) {
		t.Errorf("%d, %t, %s: no memory of its own", dest, single, short(s))
	}
	return ok
}

// check holds them of each destination, in both kinds of quotes, and of some that are none.
func check(t *testing.T, s string) {
	t.Helper()
	for _, single := range both {
		for _, dest := range dests {
			checkAt(t, dest, single, s)
		}
		for _, dest := range nowheres[:2] {
			if data, ok := Parse(dest, single, s); data != "" || ok || Wrap(dest, single, s) != "" {
				t.Errorf("%d, %t, %s: %s, %t, want nothing", dest, single, short(s), short(data), ok)
			}
		}
	}
	for _, dest := range []int{api.ToText, api.ToRcdata} {
		one, is := Parse(dest, false, s)
		if other, isToo := Parse(dest, true, s); one != other || is != isToo {
			t.Errorf("%d, %s: quotes play a part", dest, short(s))
		}
	}
	one, is := Parse(api.ToAttr, false, s)
	if other, isToo := Parse(api.ToAttr, true, turned(s)); !strings.Contains(s, "&") && (turned(one) != other || is != isToo) {
		t.Errorf("%s: %s, %t, but in the other quotes %s, %t", short(s), short(one), is, short(other), isToo)
	}
}

// part is what is put, and what is read of it.
type part struct{ put, data string }

// are holds texts that are data at a destination; quotes in them are those for a text in double ones.
func are(t *testing.T, dest int, list ...part) {
	t.Helper()
	for _, p := range list {
		check(t, p.put)
		for _, single := range both {
			put, want := p.put, p.data
			if dest == api.ToAttr && single {
				put, want = turned(put), turned(want)
				check(t, put)
			}
			if data, ok := Parse(dest, single, put); data != want || !ok {
				t.Errorf("%d, %t, %s: %s, %t, want %s", dest, single, short(put), short(data), ok, short(want))
			}
		}
	}
}

// stay holds texts that are data just as they are.
func stay(t *testing.T, dest int, list ...string) {
	t.Helper()
	for _, s := range list {
		are(t, dest, part{s, s})
	}
}

// none holds texts that are no data: nothing is told of them.
func none(t *testing.T, dest int, list ...string) {
	t.Helper()
	for _, s := range list {
		check(t, s)
		for _, single := range both {
			put := s
			if dest == api.ToAttr && single {
				put = turned(put)
				check(t, put)
			}
			if data, ok := Parse(dest, single, put); data != "" || ok {
				t.Errorf("%d, %t, %s: %s, %t, want none", dest, single, short(put), short(data), ok)
			}
		}
	}
}

func TestExamples(t *testing.T) {
	none(t, api.ToText, "a<b>")
	are(t, api.ToAttr, part{"a>b", "a>b"})
	are(t, api.ToRcdata, part{"\na", "a"})
	// Of the whole.
	none(t, api.ToText, "<p>a<p>b", "<script>a<!--<script></script></script>b", "<title>a<b></title>", "<!-->a-->", "<a x='<b>' y/>")
	are(t, api.ToText, part{"a &lt;b>", "a <b>"}, part{"a &lt;b&gt;", "a <b>"}, part{"&notit;", "\u00acit;"}, part{"&#128;", "\u20ac"}, part{"&#xD800;", bad})
	are(t, api.ToAttr, part{"&notit;", "&notit;"})
	are(t, api.ToRcdata, part{"\n\na", "\na"})
}

func TestWrap(t *testing.T) {
	for _, s := range []string{
		"", "a", "abc", " ", "'", "\"", "a\"b'c", "''", "\"\"", "<a x=\"a\">", "<a x='a'>", "<a x=", "\">", "'>", "<textarea>", "</textarea>", "<textarea>a</textarea>",
		"&lt;", "&", "\r", "\r\n", "\n", "\na", "\x00", mark + "a", "\xff", "\xe2\x82", "é€😀", strings.Repeat("<a x=''>", 1000),
	} {
		for _, single := range both {
			quote := "\""
			if single {
				quote = "'"
			}
			for dest, want := range map[int]string{api.ToText: s, api.ToAttr: "<a x=" + quote + s + quote + ">", api.ToRcdata: "<textarea>" + s + "</textarea>"} {
				if got := Wrap(dest, single, s); got != want {
					t.Errorf("%d, %t, %s: %s, want %s", dest, single, short(s), short(got), short(want))
				}
				// What is laid about it is laid about all of it, also about what was.
				if got := Wrap(api.ToRcdata, single, want); got != "<textarea>"+want+"</textarea>" {
					t.Errorf("%t, %s: %s", single, short(want), short(got))
				}
			}
		}
		check(t, s)
	}
}

// TestOtherDestinations tells nothing of them, whatever the text.
func TestOtherDestinations(t *testing.T) {
	for _, dest := range nowheres {
		for _, s := range []string{"", "a", "?", " ", "\n", "\x00", "<b>", "&lt;", "<a x='a'>", "<textarea>a</textarea>", "\xff", strings.Repeat("a", 1000)} {
			for _, single := range both {
				if got := Wrap(dest, single, s); got != "" {
					t.Errorf("%d, %t, %s: wrapped %s, want nothing", dest, single, short(s), short(got))
				}
				if data, ok := Parse(dest, single, s); data != "" || ok {
					t.Errorf("%d, %t, %s: %s, %t, want none", dest, single, short(s), short(data), ok)
				}
			}
		}
	}
}

// TestNothing has no text: that is data everywhere.
func TestNothing(t *testing.T) {
	for _, dest := range dests {
		are(t, dest, part{"", ""})
	}
}

// harmless are texts that stay as they are wherever they are put.
var harmless = []string{"a", "abc", " ", "  a  b  ", "\t\f", "a b", "1;2", "#65;", "amp;", "x=y", "/", "/a/", "!", "--", "-->", ">", "a>b", "]]>", "é€😀", "\u00a0", mark, "a" + mark, "\u2028", "\v", "\x01", "\x7f", "\xff", "\xe2\x82", bad, "a\nb", "a\n", "javascript:1", "a > b", "?>", "&", "& ", "&;", "&#", "&#;", "&#x", "&#x;", "&x", "&unknown;", "&&", "a&", "& b"}

func TestHarmless(t *testing.T) {
	for _, dest := range dests {
		stay(t, dest, harmless...)
		for _, s := range harmless {
			if data, ok := Parse(dest, true, s); data != s || !ok {
				t.Errorf("%d, %s: %s, %t", dest, short(s), short(data), ok)
			}
		}
	}
	stay(t, api.ToText, "'", "\"", "a\"b'c", "''\"\"")
	stay(t, api.ToRcdata, "'", "\"", "a\"b'c", "''\"\"")
}

// TestReferences has them with and without a semicolon, where they are read alike, and where they aren't.
func TestReferences(t *testing.T) {
	for _, dest := range dests {
		are(t, dest,
			part{"&lt;", "<"}, part{"&lt;b&gt;", "<b>"}, part{"&lt", "<"}, part{"&gt", ">"}, part{"&LT;!", "<!"}, part{"&amp;", "&"}, part{"&amp", "&"}, part{"&amp;lt;", "&lt;"}, part{"&amp;amp;", "&amp;"},
			part{"&#60;", "<"}, part{"&#60", "<"}, part{"&#60b", "<b"}, part{"&#x3c;", "<"}, part{"&#X3Cz", "<z"}, part{"&#128;", "€"}, part{"&#0;", bad}, part{"&#xD800;", bad}, part{"&#1114112;", bad}, part{"&#99999999999999999999999;", bad},
			part{"&#13;", "\r"}, part{"a&#13;\n", "a\r\n"}, part{"a&#10;b", "a\nb"}, part{"a&NewLine;b", "a\nb"}, part{"&#65279;", mark}, part{"&nbsp;", "\u00a0"}, part{"&NotEqualTilde;", "\u2242\u0338"},
			part{"&copy;", "©"}, part{"&copy", "©"}, part{"&copy.", "©."}, part{"&copy;=1", "©=1"}, part{"&copy ;", "© ;"}, part{"&lt;/textarea>", "</textarea>"}, part{"&lt;!--", "<!--"}, part{"&apos", "&apos"},
			part{"?a=b&amp;copy=1", "?a=b&copy=1"},
		)
		// Quotes that a reference tells end nothing.
		for s, want := range map[string]string{"&quot;": "\"", "&quot": "\"", "&#34;": "\"", "&#x22;>": "\">", "&apos;": "'", "&#39;": "'", "&#39": "'", "&#x27;>": "'>", "&quot; x=&apos;": "\" x='"} {
			for _, single := range both {
				if data, ok := Parse(dest, single, s); data != want || !ok {
					t.Errorf("%d, %t, %s: %s, %t", dest, single, short(s), short(data), ok)
				}
			}
		}
	}
	for _, p := range []part{{"&copy=1", "©=1"}, {"&copyx", "©x"}, {"&copy1", "©1"}, {"&notit;", "\u00acit;"}, {"&amplt;", "&lt;"}, {"&ltb", "<b"}, {"?a&lt=b", "?a<=b"}, {"&AMPx;", "&x;"}, {"&copy==", "©=="}} {
		are(t, api.ToText, p)
		are(t, api.ToRcdata, p)
		are(t, api.ToAttr, part{p.put, p.put})
	}
	// A bracket that a reference tells marks nothing up.
	are(t, api.ToText, part{"&lt;b>", "<b>"}, part{"&lt;/b>", "</b>"}, part{"<&#98;>", "<b>"}, part{"<&lt;b>", "<<b>"}, part{"&#60;script>", "<script>"}, part{"&lt;!doctype>", "<!doctype>"})
	are(t, api.ToRcdata, part{"<&#47;textarea>", "</textarea>"}, part{"</text&#97;rea>", "</textarea>"}, part{"</&#116;extarea>", "</textarea>"})
}

// TestLinesAndZero has 13, 13 10 and the byte 0: of these the last one stays, where a text isn't cleaned.
func TestLinesAndZero(t *testing.T) {
	for _, dest := range dests {
		are(t, dest,
			part{"a\rb", "a\nb"}, part{"a\r\nb", "a\nb"}, part{"a\n\rb", "a\n\nb"}, part{"a\r\rb", "a\n\nb"}, part{"a\r\n\r\nb", "a\n\nb"}, part{"a\r", "a\n"}, part{"a\r\n", "a\n"},
			part{"a\r&#10;b", "a\n\nb"}, part{"a&#13;\nb", "a\r\nb"}, part{"a&#13;&#10;b", "a\r\nb"},
		)
	}
	for _, dest := range []int{api.ToText, api.ToAttr} {
		are(t, dest, part{"\r", "\n"}, part{"\r\n", "\n"}, part{"\n", "\n"}, part{"\r\r", "\n\n"}, part{"\r\na", "\na"}, part{"\n\n", "\n\n"}, part{"&#10;a", "\na"})
	}
	stay(t, api.ToText, "\x00", "a\x00b", "\x00\x00", "<\x00b>", "&\x00lt;")
	for _, dest := range []int{api.ToAttr, api.ToRcdata} {
		are(t, dest, part{"\x00", bad}, part{"a\x00b", "a" + bad + "b"}, part{"\x00\x00", bad + bad}, part{"<\x00b>", "<" + bad + "b>"}, part{"&\x00lt;", "&" + bad + "lt;"}, part{"\x00\n", bad + "\n"})
	}
}

func TestToText(t *testing.T) {
	stay(t, api.ToText, "<", "<<", "<<<", "a<", "a<1", "a < b", "<>", "<=", "<\"", "<'", "<é>", "<\n", "< b>", "<-", "<&", "</", "a</", "<</", "a < b > c", "<1>2</", "<[a]>", "<\xff>", "<.b>")
	// A bracket that marks up, and a tag that doesn't end: of it, and all behind it, no piece is told.
	for _, s := range []string{"<b", "</b", "<b ", "<b x", "<b x=", "<b x='", "<b x='>", "<b x=\">'</b>", "<b/", "</b x='>", "<B\n", "<title", "</title", "<script", "<script x='>a</script>", "<plaintext", "<textarea ", "<b<c", "<b <!--a--"} {
		are(t, api.ToText, part{s, ""}, part{"a" + s, "a"}, part{"a\r\n&lt;" + s, "a\n<"}, part{" " + s, " "}, part{"</>" + s, ""}, part{"a</>b" + s, "ab"})
	}
	// A tag's end without a name is no piece, and parts no text.
	are(t, api.ToText, part{"</>", ""}, part{"</></>", ""}, part{"a</>", "a"}, part{"</>a", "a"}, part{"a</>b", "ab"}, part{"a</></>b</>c", "abc"}, part{"&l</>t;", "&lt;"}, part{"<</>b>", "<b>"}, part{"&amp</>;", "&;"})
	// All that is one, or has one.
	for _, s := range []string{
		"<b>", "</b>", "<b/>", "<b x='>'>", "</b x>", "<B>", "<b\n>", "<b\x00>", "<br>", "<x-y>", "<a x=''>", "<z>",
		"<!>", "<!-->", "<!---->", "<!--a-->", "<!--a", "<!", "<!a", "<!-", "<!--", "<![CDATA[a]]>", "<?", "<?x>", "<?>", "</ ", "</ a>", "</1>", "</\n", "</é>", "</-", "</\x00", "<//",
		"<!doctype html>", "<!doctype>", "<!DOCTYPE", "<!DocType html", "<!doctypes>",
	} {
		none(t, api.ToText, s, "a"+s, s+"a", "a"+s+"b", s+s, "\n"+s, "</>"+s, s+"</>", s+"<b ", "<"+s)
	}
	for _, name := range strings.Fields("title textarea style xmp iframe noembed noframes noscript script plaintext head template body pre listing p br hr li table") {
		for _, n := range []string{name, strings.ToUpper(name)} {
			none(t, api.ToText, "<"+n+">", "</"+n+">", "<"+n+">a", "<"+n+">a</"+n+">", "a<"+n+"></"+n+">b", "<"+n+"/>", "a</"+n+" >", "<"+n+">&lt;b>", "<"+n+">a<b ")
			are(t, api.ToText, part{"&lt;" + n + ">a&lt;/" + n + ">", "<" + n + ">a</" + n + ">"}, part{"a<" + n, "a"}, part{"a<" + n + " x='></" + n + ">", "a"})
		}
	}
	// Two texts, with something between that is a piece.
	none(t, api.ToText, "a<b>b", "a</b>b", "a<!---->b", "a<!>b", "a<?>b", "a<!doctype>b", "a<br/>b", "a<b><b>b", "a<b>b<b>c", "a<title></title>b")
	// What Wrap lays about a text elsewhere.
	none(t, api.ToText, "<a x=\"a\">", "<textarea>a</textarea>", "<textarea>", "</textarea>")
}

// TestToAttr has quotes: `"` stands for the own one, and `'` for the other.
func TestToAttr(t *testing.T) {
	stay(t, api.ToAttr, "'", "''", "a'b", "'a'", "'>", "a'>b", "' y='", "'/>", "a>b<c>'", "<", ">", "<b>", "</b>", "<b", "/>", "</a>", "<!--", "<!--a-->", "<!doctype html>", "<?x>", "</>", "</textarea>", "<script>", "</script>", "<plaintext>", "<title>a</title>", "<a x='a'>", "a/", "/", "=", "x=1", " x=1 ", "a b", "`", " ", ">>", "<<", "a>")
	// Behind its own quote something else stands: at least the quote and the bracket that Wrap laid there.
	for _, s := range []string{
		"\"", "\"/", "\"/ ", "\"//", "\" ", "\"\n", "\"\t", "\"\r", "\"a", "\" a", "\"=", "\" y", "\" y=", "\" y=\"b", "\" y=b", "\" y='b'", "\" y='b", "\"y=\"", "\"/y", "\"/y=\"b", "\" '", "\"'", "\"''", "\" ''=\"",
		"\" x", "\"x", "\"/x", "\"x'", "\" x=", "\" x='", "\"x=", "\" x=\"b\"", "\" x=\"b\" ", "\" x=b y", "\" x=b c=\"", "\" x=''", "\" x='b' ", "\" x/", "\" x /", "\" x=b ", "\" x y=\"", "\" xx=\"b", "\" x\x00=\"b", "\" x=\"b\" y=\"c", "\" \x00=\"",
		"\">", "\">b", "\"> ", "\">&lt;", "\"></a>", "\"></>", "\"><b>", "\"></b>", "\"><b>c", "\"><b x=\"", "\"><b y='b' x=\"c", "\"><b ", "\"><b", "\"></b ", "\"><!--", "\"><!---->", "\"><!--a", "\"><!", "\"><?", "\"></ ", "\"><!doctype", "\"><", "\"></", "\"><1", "\"><title>", "\"><script>", "\"><textarea>", "\"><a x=\"",
		"\"/>", "\"/>b", "\"/><b>", "\"/><b x=", "\"/><b x='", "\"/></b x=", "\" /><b x=", "\"x/><b x=", "\" / />", "\" y><b x=", "\" y/><b x=", "\">c<b x=", "\">c<b x='", "\">&amp<b x=", "\"><b><c x=", "\"><!----><b x=", "\"><title><b x=",
	} {
		none(t, api.ToAttr, s, "a"+s, "a'b"+s, " "+s, "&copy"+s, ">"+s)
		none(t, api.ToAttr, "a\n"+s, "\x00"+s, "<b>"+s, "a=1"+s)
	}
	// Another attribute of that name is none: it is left out.
	for _, s := range []string{"\" x=\"", "\" x=\"b", "\" X=\"b", "\"x=\"b", "\"/x=\"b", "\" x =\"b", "\" x= \"b", "\"\nx\n=\r\n\"b", "\" / x=\"b", "\" x=b", "\" x=b'", "\" x=c x=b", "\" x X=\"b", "\" x='b' x=\"c", "\" x=\"b\" x=\"c", "\"x=\"b\"X=\"c", "\" x=\">", "\" x=\"<b>", "\" x=\"&lt", "\" x=\"/", "\" x/x=\"b", "\" x=b/", "\" x=/"} {
		for _, ahead := range []part{{"", ""}, {"a", "a"}, {"'", "'"}, {"&lt;", "<"}, {"a>", "a>"}, {"\x00", bad}, {"a\r\n", "a\n"}, {"&copy", "©"}, {"&copy=", "&copy="}} {
			are(t, api.ToAttr, part{ahead.put + s, ahead.data})
		}
	}
	// Behind the tag stands what tells no piece: by the list that is data.
	for _, s := range []string{"\"><b x=", "\"><b x='", "\"></b x=", "\"></><b x=", "\"><title x=", "\"><b y='", "\"></></></b x='<c>", "\" x=1/><b x=", "\" x=\"b\"><b x="} {
		are(t, api.ToAttr, part{s, ""}, part{"a" + s, "a"}, part{"a'&lt;" + s, "a'<"})
	}
	// What is read in the other quotes isn't what is read in its own.
	for _, c := range []struct {
		s              string
		double, single bool
	}{{"a\"b", false, true}, {"a'b", true, false}, {"'\"", false, false}, {"\"'", false, false}, {"\" x=\"", true, true}, {"' x='b", true, true}, {"' x=\"", false, false}, {"<a x=\"a\">", false, true}, {"<a x='a'>", true, false}} {
		for _, single := range both {
			want := c.double
			if single {
				want = c.single
			}
			if _, ok := Parse(api.ToAttr, single, c.s); ok != want {
				t.Errorf("%t, %s: %t", single, short(c.s), ok)
			}
		}
	}
}

// TestPieces has lists of pieces that what Wrap lays about a text never leads to, beside some to which it does: the list of P23.2 is asked of all of them.
func TestPieces(t *testing.T) {
	x := []api.Attr{{Name: "x", Value: "v"}}
	l := []api.Token{
		{Kind: api.Text, Text: "t"}, {Kind: api.Text, Text: "\n"}, {Kind: api.Comment, Text: "c"}, {Kind: api.Doctype, Text: "d"},
		{Kind: api.Start, Name: "a", Attrs: x}, {Kind: api.Start, Name: "a"}, {Kind: api.Start, Name: "a", Attrs: x, Self: true}, {Kind: api.Start, Name: "b", Attrs: x}, {Kind: api.End, Name: "a", Attrs: x},
		{Kind: api.Start, Name: "a", Attrs: []api.Attr{{Name: "y", Value: "v"}}}, {Kind: api.Start, Name: "a", Attrs: append(x[:1:1], api.Attr{Name: "y"})},
		{Kind: api.Start, Name: "textarea"}, {Kind: api.Start, Name: "textarea", Self: true}, {Kind: api.Start, Name: "textarea", Attrs: x}, {Kind: api.Start, Name: "title"},
		{Kind: api.End, Name: "textarea"}, {Kind: api.End, Name: "title"},
	}
	of := map[int]func([]api.Token) (string, bool){api.ToText: text, api.ToAttr: value, api.ToRcdata: within}
	found := 0
	ask := func(l ...api.Token) {
		for dest, data := range of {
			want, is := judged(dest, l)
			if got, ok := data(l); got != want || ok != is {
				t.Errorf("%d, %v: %s, %t, want %s, %t", dest, l, short(got), ok, short(want), is)
			}
			if is {
				found++
			}
		}
	}
	ask()
	for _, a := range l {
		ask(a)
		for _, b := range l {
			ask(a, b)
			for _, c := range l {
				ask(a, b, c)
				ask(l[11], a, b, c)
				ask(a, b, c, l[15])
			}
		}
	}
	// Nothing; two texts; an attribute; a text area with nothing, and with either text.
	if found != 7 {
		t.Errorf("%d lists are data", found)
	}
}

// cases are some of the mixtures of letters of a name.
func cases(name string) []string {
	odd := []byte(name)
	for k := range odd {
		if k%2 == 1 {
			odd[k] -= 32
		}
	}
	return []string{name, strings.ToUpper(name), string(odd), turnedCase(string(odd))}
}

// turnedCase is s with large letters for small ones, and small ones for large.
func turnedCase(s string) string {
	return strings.Map(func(r rune) rune { return r ^ 32 }, s)
}

func TestToRcdata(t *testing.T) {
	stay(t, api.ToRcdata, "<b>", "</b>", "a<b>c</b>d", "<b x='", "<", "</", "</>", "<!--", "<!--a-->", "<!doctype>", "<?x>", "</ textarea>", "<textarea>", "a<textarea>b", "<textarea", "</title>", "</script>", "<script>", "<plaintext>", "<title>a</title>", "</text area>", "</textare>", "</textare", "</ta>", "/textarea>", "<//textarea>", "< /textarea>", "<\n/textarea>", "</\ntextarea>", "<!--</b>-->", "'\">", "a>b", "<a x=\"a\">")
	for _, name := range cases("textarea") {
		// Without its end the name goes on with the bracket of the end that Wrap laid there.
		stay(t, api.ToRcdata, "</"+name, "a</"+name, "</"+name+"</"+name, "a<b></"+name)
		for _, on := range []string{"s", "-", "1", "<", "</", "'", "\"", "=", "=>", "\v", "é", ".", "&", "s>", "-x>", "s ", "x/", "\"> ", "_>", "\x01>", "\xff>", "textarea>"} {
			stay(t, api.ToRcdata, "</"+name+on, "a</"+name+on+"b")
		}
		are(t, api.ToRcdata, part{"</" + name + "\x00>", "</" + name + bad + ">"}, part{"</" + name + "&gt;", "</" + name + ">"}, part{"&lt;/" + name + ">", "</" + name + ">"}, part{"<&#47;" + name + ">", "</" + name + ">"}, part{"<</>" + "/" + name, "<</>/" + name})
		// Its own end: then the one that Wrap laid there is one more.
		for _, end := range []string{">", " >", "\t>", "\n>", "\f>", "\r>", "\r\n>", "  >", "/>", " />", "/ >", "//>", " x>", " x=1>", " x='>'>", "/x>", " x y z>", " x=\">\" >", " =>", " <>"} {
			s := "</" + name + end
			none(t, api.ToRcdata, s, "a"+s, s+"b", "a"+s+"b", s+s, "\n"+s, "&lt;"+s, s+"&lt;", "<b>"+s, s+" ", s+"</>", s+"<b>", s+"<!--", s+"<!", s+"<!doctype", s+"<textarea>", s+"<title>", s+"</b ", s+"<", s+"</", "\n"+s+"\n", s+"<b ")
			// Behind it a tag that doesn't end, and takes the other end with it: by the list that is data.
			are(t, api.ToRcdata, part{s + "<b x='", ""}, part{"a" + s + "<b x='", "a"}, part{"\na" + s + "</b x=\"", "a"}, part{"a&lt;" + s + "</></b x='>", "a<"})
		}
		// An end that doesn't end itself is ended by the bracket of the one that Wrap laid there.
		for _, end := range []string{" ", "\t", "\n", "\r", "\f", "\r\n", "/", "//", " /", " x", " x ", " x=", " x=1", " x='b'", " x='>' ", " x=\"b\"/", "/x", " <", " x='</textarea>'", " '", " \"", " =", " x=<"} {
			s := "</" + name + end
			are(t, api.ToRcdata, part{s, ""}, part{"a" + s, "a"}, part{"\n\na" + s, "\na"}, part{"<b>&amp" + s, "<b>&"}, part{"</" + name + "s" + s, "</" + name + "s"})
		}
		// One that never ends is no piece: then there is no end.
		for _, end := range []string{" x='", " x=\"", " x = '", "/x='>", " x='b' y=\">"} {
			none(t, api.ToRcdata, "</"+name+end, "a</"+name+end, "\n</"+name+end, "</"+name+end+"a>")
		}
	}
	// An end of another name alone behind it.
	none(t, api.ToRcdata, "a</textarea></b ", "</textarea></b ", "a</textarea></textareas ", "</textarea></b", "</textarea></b x")
}

// TestLineEndAhead has a line's end at the beginning of a text area: the first one alone is taken away, of whatever it came.
func TestLineEndAhead(t *testing.T) {
	for _, end := range []string{"\n", "\r", "\r\n", "&#10;", "&#10", "&#xA;", "&#x0a", "&NewLine;", "&#0010;"} {
		are(t, api.ToRcdata, part{end, ""}, part{end + "-", "-"}, part{end + " -" + end, " -\n"}, part{end + "<b>", "<b>"}, part{end + "&lt;", "<"}, part{end + "\x00", bad}, part{end + mark, mark}, part{end + "é", "é"}, part{end + "\xff", "\xff"})
		for _, more := range []string{"\n", "&#10;", "&NewLine;"} {
			if end+more == "\r\n" {
				continue
			}
			are(t, api.ToRcdata, part{end + more, "\n"}, part{end + more + "-", "\n-"}, part{end + more + "\n" + more, "\n\n\n"})
		}
		none(t, api.ToRcdata, end+"</textarea>", end+"-</textarea>")
		are(t, api.ToRcdata, part{end + "</textarea", "</textarea"}, part{end + "</textarea ", ""})
		// Elsewhere it stays.
		are(t, api.ToText, part{end + "-", "\n-"}, part{end, "\n"})
		are(t, api.ToAttr, part{end + "-", "\n-"}, part{end, "\n"})
	}
	are(t, api.ToRcdata, part{"\n\r", "\n"}, part{"\r\r", "\n"}, part{"\r\r\n", "\n"}, part{"\r\n\r\n", "\n"}, part{"\r\n\r", "\n"}, part{"\n\r\na", "\na"}, part{"&#13;", "\r"}, part{"&#13;\n", "\r\n"}, part{"&#13;&#10;a", "\r\na"}, part{"\n&#13;", "\r"}, part{"\r&#10;", "\n"})
	stay(t, api.ToRcdata, " \n", "\f\n", "\v\n", "\ta\n", "a\n", mark+"\n", "\u0085", "\u2028\n", "<b>\n", " \na")
	for n := 1; n < 6; n++ {
		are(t, api.ToRcdata, part{strings.Repeat("\n", n), strings.Repeat("\n", n-1)}, part{strings.Repeat("\r", n) + "a", strings.Repeat("\n", n-1) + "a"})
	}
}

// eachText hands all texts of n of those to see.
func eachText(of []string, n int, see func(string)) {
	if n == 0 {
		see("")
		return
	}
	eachText(of, n-1, func(s string) {
		for _, last := range of {
			see(s + last)
		}
	})
}

// sets are pieces of which all short texts are made.
var sets = []struct {
	of   []string
	most int
}{
	{[]string{"a", " ", "<", ">", "/", "\"", "'", "=", "x", "\n", "&"}, 4},
	{[]string{"\"", " x=", "x", ">", "/>", "<b x=", "'", "b"}, 5},
	{[]string{"</textarea", "</TEXTAREA", " ", ">", "/", "\n", "a", "<b x='"}, 4},
	{[]string{"&", "amp;", "lt;", "#", "10", ";", "\r", "\n", "\x00"}, 4},
	{[]string{"</>", "<", "b", "!", "?", "/", ">", "--", "doctype"}, 4},
	{[]string{"<title>", "</title>", "<textarea>", "</textarea>", "<!--", "-->", "a", "\n"}, 4},
}

// TestAllShortTexts has all that can be made of a few pieces, and all pairs of bytes.
func TestAllShortTexts(t *testing.T) {
	for _, c := range sets {
		for n := range c.most + 1 {
			eachText(c.of, n, func(s string) { check(t, s) })
		}
	}
	for a := range 256 {
		check(t, string([]byte{byte(a)}))
		for b := range 256 {
			check(t, string([]byte{byte(a), byte(b)}))
		}
	}
}

// drawn draws a text of bytes of all kinds, and of pieces of markup.
func drawn(r *rand.Rand, most int) string {
	some := strings.Fields("< > / </ </> <!-- --> --!> <! <? & ; &# &#x &lt &amp; &lt; &quot; &#39; &#0; &#13; &#10; &#xFEFF; &copy &copy=1 ' \" = a b x 1 é 😀 <!doctype amp; lt; <b> </b> <b <title> </title> <script> </script> <textarea> </textarea> </textarea </TextArea <plaintext>")
	some = append(some, " ", "\t", "\r", "\n", "\r\n", "\x00", mark, "\xef", "\xbb", bad, "\" x=\"", "' x='", "\">", "'>", " x=", "<b x='", "<b x=\"", "</textarea ", "\" y=\"b", "\"/>", "abc")
	var b []byte
	for range r.IntN(most) {
		switch r.IntN(6) {
		case 0:
			b = append(b, byte(r.IntN(256)))
		case 1:
			b = append(b, string(rune(32+r.IntN(96)))...)
		default:
			b = append(b, some[r.IntN(len(some))]...)
		}
	}
	return string(b)
}

// TestDrawnTexts holds Parse against chapters 2 and 16, by the list; of each place there are many that are data, and many that aren't.
func TestDrawnTexts(t *testing.T) {
	r := rand.New(rand.NewPCG(23, 1))
	type place struct {
		dest   int
		single bool
	}
	data, others := map[place]int{}, map[place]int{}
	for range 60000 {
		s := drawn(r, 12)
		check(t, s)
		for _, dest := range dests {
			for _, single := range both {
				if checkAt(t, dest, single, s) {
					data[place{dest, single}]++
				} else {
					others[place{dest, single}]++
				}
			}
		}
	}
	for _, dest := range dests {
		for _, single := range both {
			if p := (place{dest, single}); data[p] < 3000 || others[p] < 3000 {
				t.Errorf("%d, %t: %d are data, %d aren't", dest, single, data[p], others[p])
			}
		}
	}
	for range 3000 {
		check(t, drawn(r, 200))
	}
}

// read holds what is read of a text that was written for a place against what it was.
func read(t *testing.T, dest int, written, said string) {
	t.Helper()
	for _, single := range both {
		if data, ok := Parse(dest, single, written); data != said || !ok {
			t.Errorf("%d, %t, %s: %s, %t, want %s", dest, single, short(written), short(data), ok, short(said))
		}
	}
}

// checkWritten has a text of signs written for each place, and read there.
func checkWritten(t *testing.T, s string) {
	t.Helper()
	said := strings.ReplaceAll(s, "\x00", bad)
	for _, dest := range dests {
		read(t, dest, escape.Encode(dest, s), said)
	}
}

// written are the signs that are written otherwise, and others beside them.
var written = []string{"&", "<", ">", "\"", "'", "\r", "\n", "\x00", mark, "a", "/", "é"}

// TestWhatIsWritten is P23.3.
func TestWhatIsWritten(t *testing.T) {
	for n := range 5 {
		eachText(written, n, func(s string) { checkWritten(t, s) })
	}
	for _, s := range []string{"</textarea>", "a</textarea>b", "\n</textarea>", "\n\n\n", "\r\n", "\n\r", "\x00\n", "\n\x00", mark + "\n", "\n" + mark, "\" x=\"b", "' x='b", "\">", "'/><b x=", "<b>", "<!--", "</", "<b x='", "&copy=1", "&amp", "&#0;", "&#60", "&lt;b&gt;", "&notit;", "<script>a</script>", "<plaintext>", "😀", "\U0010ffff", "\ud7ff\ue000", bad, " a ", "\n a \n"} {
		checkWritten(t, s)
	}
	for k := range 128 {
		for l := range 128 {
			checkWritten(t, string([]byte{byte(k), byte(l)}))
		}
	}
}

// drawnSigns draws a text of just signs.
func drawnSigns(r *rand.Rand) string {
	var b strings.Builder
	for range r.IntN(20) {
		switch r.IntN(4) {
		case 0:
			b.WriteString(written[r.IntN(len(written))])
		case 1:
			b.WriteRune(rune(r.IntN(128)))
		case 2:
			b.WriteRune(rune(r.IntN(1114112)))
		default:
			b.WriteString(strings.ToValidUTF8(drawn(r, 4), bad))
		}
	}
	return b.String()
}

func TestDrawnSigns(t *testing.T) {
	r := rand.New(rand.NewPCG(23, 2))
	for range 40000 {
		s := drawnSigns(r)
		if !utf8.ValidString(s) {
			t.Fatalf("%s isn't just signs", short(s))
		}
		checkWritten(t, s)
		checkWritten(t, "\n"+s)
	}
}

// TestEachSign has all of them written and read, one by one between others, and some alone.
func TestEachSign(t *testing.T) {
	var all strings.Builder
	for n := range 1114112 {
		if n >= 55296 && n <= 57343 {
			continue
		}
		s := string(rune(n))
		all.WriteString(s)
		if n < 3000 || n%97 == 0 || n > 65000 && n < 65600 {
			checkWritten(t, s)
		}
	}
	checkWritten(t, all.String())
}

// checkLeft has what is left of any bytes read in each place, whichever it was left for.
func checkLeft(t *testing.T, in string) {
	t.Helper()
	said := extract.Extract([]byte(in))
	for _, dest := range dests {
		for _, put := range dests {
			read(t, put, sanitize.Sanitize(dest, []byte(in)), said)
		}
		read(t, dest, sanitize.Twice(dest, []byte(in)), extract.Extract([]byte(sanitize.Sanitize(dest, []byte(in)))))
	}
}

func TestWhatIsLeft(t *testing.T) {
	for _, s := range []string{"", "a", "<b>a</b> &lt;i>", "<p>a<p>b", "&lt;/textarea>", "&quot; x=&quot;", "\">", "'>", "<textarea>\n\na</textarea>", "<plaintext></textarea>\"'>", "&amp;lt;", mark + mark, "\xff", "\x00", "&#0;", "&#13;-", "<pre>a&#13;&#10;b", "<title>a</title>", "<script>", "&copy=1", "&amp;copy=1", "\xe2\x82A"} {
		checkLeft(t, s)
	}
	for a := range 256 {
		checkLeft(t, string([]byte{byte(a)}))
		for b := 0; b < 256; b += 3 {
			checkLeft(t, string([]byte{byte(a), byte(b)}))
		}
	}
	r := rand.New(rand.NewPCG(23, 3))
	for range 10000 {
		checkLeft(t, drawn(r, 30))
	}
}

// TestLong has long texts, and texts of many thousand tags and references.
func TestLong(t *testing.T) {
	const n = 8000
	for _, dest := range dests {
		for _, p := range []part{{"abc ", "abc "}, {"&amp;", "&"}, {"&lt;b>", "<b>"}, {"&#60;", "<"}, {"é", "é"}, {"a\r\n", "a\n"}, {"a>", "a>"}, {"&", "&"}, {"&#0;", bad}, {"\xff", "\xff"}, {"a&NewLine;", "a\n"}, {"x=1 ", "x=1 "}} {
			are(t, dest, part{strings.Repeat(p.put, n), strings.Repeat(p.data, n)})
		}
		are(t, dest, part{"&#" + strings.Repeat("0", n) + "60;", "<"}, part{"&#" + strings.Repeat("9", n) + ";", bad}, part{"&amp;" + strings.Repeat("amp;", n), "&" + strings.Repeat("amp;", n)})
	}
	none(t, api.ToText, strings.Repeat("<b>", n), strings.Repeat("a<b>", n), strings.Repeat("a", n)+"<b>", strings.Repeat("<!---->", n), strings.Repeat("</b>", n), strings.Repeat("<title></title>", n), "<b "+strings.Repeat("x ", n)+">", "<!--"+strings.Repeat("a", n))
	are(t, api.ToText, part{strings.Repeat("a</>", n), strings.Repeat("a", n)}, part{"a" + strings.Repeat("<b ", n), "a"}, part{strings.Repeat("< ", n), strings.Repeat("< ", n)}, part{"a<b x='" + strings.Repeat(">", n), "a"}, part{strings.Repeat("</>", n), ""}, part{strings.Repeat("\n", n), strings.Repeat("\n", n)})
	stay(t, api.ToAttr, strings.Repeat("<b>", n), strings.Repeat("'", n), strings.Repeat("<!---->", n), strings.Repeat("</a>", n), strings.Repeat("&copy=1", n), strings.Repeat("/>", n))
	are(t, api.ToAttr, part{"a" + strings.Repeat("\" x=\"b", n), "a"}, part{strings.Repeat("\"x=\"", n), ""}, part{"a\"><b x='" + strings.Repeat("b", n), "a"})
	none(t, api.ToAttr, strings.Repeat("\"", n), strings.Repeat("\"><b>", n), strings.Repeat("\" ", n), strings.Repeat("a\"><a x=\"", n), strings.Repeat("b", n)+"\"", "a\"><b x="+strings.Repeat("b", n))
	stay(t, api.ToRcdata, strings.Repeat("<b>", n), strings.Repeat("</textarea", n), strings.Repeat("<textarea>", n), strings.Repeat("</textareas>", n), strings.Repeat("</", n), strings.Repeat("</title>", n), strings.Repeat("'\"", n))
	are(t, api.ToRcdata, part{strings.Repeat("\n", n), strings.Repeat("\n", n-1)}, part{"a</textarea " + strings.Repeat("x ", n), "a"})
	none(t, api.ToRcdata, strings.Repeat("</textarea>", n), strings.Repeat("a", n)+"</textarea>", strings.Repeat("</textarea>\n", n), strings.Repeat("a</textarea><textarea>", n))
	var s strings.Builder
	for k := range n {
		s.WriteString("\" y" + strconv.Itoa(k) + "=\"<&>\n")
	}
	none(t, api.ToAttr, s.String())
	checkWritten(t, s.String())
	for _, sign := range written {
		checkWritten(t, strings.Repeat(sign, n))
	}
	checkWritten(t, strings.Repeat("</textarea>\" x='<b>&amp;\r\n\x00", n/10))
}

// TestNothingIsKept hands in texts again and again, with others between.
func TestNothingIsKept(t *testing.T) {
	type answer struct {
		in, data string
		ok       bool
	}
	first := map[string]answer{}
	for range 3 {
		for _, s := range []string{"", "a", "\n\na", "<b>", "a\"b", "a'b", "a</textarea>", "&lt;", "\x00", "\" x=\"", "a<b"} {
			for _, dest := range []int{api.ToText, api.ToAttr, api.ToRcdata, -1, 3} {
				for _, single := range both {
					key := strconv.Itoa(dest) + strconv.FormatBool(single) + s
					data, ok := Parse(dest, single, s)
					got := answer{Wrap(dest, single, s), data, ok}
					if was, known := first[key]; known && was != got {
						t.Errorf("%s: %v, and again %v", short(key), was, got)
					}
					first[key] = got
				}
			}
		}
	}
}

// TestCallsBesideEachOther has several calls at a time, of the same text and of others.
func TestCallsBesideEachOther(t *testing.T) {
	inputs := []string{"a<b", "a<b>", "\na", "a\x00b", "\r\n&lt;", "\"", "'", "\" x=\"b", "a</textarea>", "a</textarea ", "plain"}
	var all sync.WaitGroup
	for first := range 8 {
		all.Go(func() {
			for k := range 1500 {
				s, dest, single := inputs[(first+k)%len(inputs)], (first+k)%5-1, k%2 == 0
				in := wrapped(dest, single, s)
				want, is := "", false
				if in != "" {
					want, is = judged(dest, drive.Drive(lines.Norm(in)))
				}
				if data, ok := Parse(dest, single, s); data != want || ok != is || Wrap(dest, single, s) != in {
					t.Errorf("%d, %t, %s: %s, %t", dest, single, short(s), short(data), ok)
				}
			}
		})
	}
	all.Wait()
}

func FuzzContext(f *testing.F) {
	for _, s := range []string{"", "a<b>", "a<b", "a>b", "\na", "\r\n&#10;", "&copy=1", "a\x00b", "\" x=\"b", "'/><b x=", "a</textarea>b", "a</TextArea x", "</>", "<!--", mark, "\xff", "<title>"} {
		f.Add(s)
	}
	f.Fuzz(func(t *testing.T, s string) {
		check(t, s)
		checkWritten(t, strings.ToValidUTF8(s, bad))
		checkLeft(t, s)
	})
}
