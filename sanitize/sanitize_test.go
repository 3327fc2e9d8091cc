package sanitize

import (
	"math"
	"math/rand/v2"
	"slices"
	"strconv"
	"strings"
	"sync"
	"testing"
	"unicode/utf8"

	"flail/api"
	"flail/drive"
	"flail/escape"
	"flail/extract"
	"flail/ref"
	"flail/tok"
)

const (
	bad     = "\xef\xbf\xbd"
	mark    = "\xef\xbb\xbf"
	written = "&#65279;" // that mark, as it is left
)

var (
	dests    = []int{api.ToText, api.ToAttr, api.ToRcdata}
	nowheres = []int{-1, 3, -2, 4, 5, 6, 7, 10, 255, 256, 257, 258, -254, -255, -256, math.MaxInt32, math.MinInt32, 1 << 32, 1<<32 + 1, 1<<32 + 2, math.MaxInt, math.MinInt, math.MinInt + 1, math.MinInt + 2}
)

// short is s, or so much of it as a failing test may tell.
func short(s string) string {
	if len(s) > 200 {
		return strconv.Quote(s[:200]) + ".."
	}
	return strconv.Quote(s)
}

// solid tells whether a sign is no blank.
func solid(r rune) bool { return !strings.ContainsRune("\t\n\f\r ", r) }

// folded is what is left with one blank for all that stand side by side: of text alone, without tags, a second step leaves that.
func folded(s string) string {
	return strings.Join(strings.FieldsFunc(s, func(r rune) bool { return !solid(r) }), " ")
}

// tidy holds what is left of so many bytes against P22.2.
func tidy(t *testing.T, in, got string, bytes int) {
	t.Helper()
	if !utf8.ValidString(got) {
		t.Errorf("%s: %s isn't just signs", short(in), short(got))
	}
	if strings.ContainsAny(got, "<>\"'\x00\r") || strings.Contains(got, mark) {
		t.Errorf("%s: %s has what it mustn't", short(in), short(got))
	}
	if strings.TrimFunc(got, func(r rune) bool { return !solid(r) }) != got {
		t.Errorf("%s: %s begins or ends with a blank", short(in), short(got))
	}
	if len(got) > 18*bytes {
		t.Errorf("%s: %d bytes of %d", short(in), len(got), bytes)
	}
}

// check holds what is left of an input, to each destination and to some that are none, against the calls of which the chapter says that it is made, and tells it.
func check(t *testing.T, in string) string {
	t.Helper()
	said := extract.Extract([]byte(in))
	first := Sanitize(api.ToText, []byte(in))
	for _, dest := range dests {
		once, twice := Sanitize(dest, []byte(in)), Twice(dest, []byte(in))
		if want := escape.Encode(dest, said); once != want || once != first {
			t.Errorf("%d, %s: %s, want %s, and as to a text %s", dest, short(in), short(once), short(want), short(first))
		}
		if want := Sanitize(dest, []byte(once)); twice != want || twice != folded(once) {
			t.Errorf("%d, %s: twice %s, want %s, as of blanks %s", dest, short(in), short(twice), short(want), short(folded(once)))
		}
		tidy(t, in, once, len(in))
		tidy(t, in, twice, len(once))
	}
	for _, dest := range nowheres[:2] {
		if once, twice := Sanitize(dest, []byte(in)), Twice(dest, []byte(in)); once != "" || twice != "" {
			t.Errorf("%d, %s: %s and %s, want nothing", dest, short(in), short(once), short(twice))
		}
	}
	if read := ref.Decode(first, false); read != said {
		t.Errorf("%s: %s is read as %s, but was %s", short(in), short(first), short(read), short(said))
	}
	return first
}

// is holds what is left of an input against a text.
func is(t *testing.T, in, want string) {
	t.Helper()
	if got := check(t, in); got != want {
		t.Errorf("%s: %s, want %s", short(in), short(got), short(want))
	}
}

// part is an input, and what is left of it.
type part struct{ in, left string }

// are holds each of them.
func are(t *testing.T, list ...part) {
	t.Helper()
	for _, p := range list {
		is(t, p.in, p.left)
	}
}

func TestExamples(t *testing.T) {
	is(t, "<b>a</b> &lt;i>", "a &lt;i&gt;")
	// Of the whole.
	are(t,
		part{"<p>a<p>b", "a\n\nb"},
		part{"a &lt;b>", "a &lt;b&gt;"},
		part{"<script>a<!--<script></script></script>b", "b"},
		part{"<title>a<b></title>", ""},
		part{"&notit;", "\u00acit;"},
		part{"<a x='&notit;'>", ""},
		part{"&#128;", "\u20ac"},
		part{"&#xD800;", bad},
		part{"\xe2\x82A", bad + "A"},
		part{"<!-->a-->", "a--&gt;"},
		part{"\na", "a"},
		part{"<a x='<b>' y/>", ""},
	)
}

// TestNoBytes hands in none, and the nil list.
func TestNoBytes(t *testing.T) {
	for _, b := range [][]byte{nil, {}, make([]byte, 0, 10)} {
		for _, dest := range slices.Concat(dests, nowheres) {
			if once, twice := Sanitize(dest, b), Twice(dest, b); once != "" || twice != "" {
				t.Errorf("%d, no bytes: %s and %s", dest, short(once), short(twice))
			}
		}
	}
}

// TestNothingToRead has bytes that say nothing, each alone and beside each other.
func TestNothingToRead(t *testing.T) {
	list := []string{
		"<b>", "</b>", "<p></p>", "<br>", "<hr>", "<ul><li></ul>", "<a x='<\"&lt;'>", "<b c=d/>", "</p x='>'>", "<img>",
		"<!---->", "<!-->", "<!--'a' > \"b\"-->", "<!--&lt;-->", "<!x>", "<?x>", "</ x>", "</>",
		"<!doctype html>", "<!DOCTYPE html PUBLIC \"a\" 'b'>",
		"<script>a</script>", "<style>'</style>", "<title>&lt;</title>", "<template><p>a</template>", "<noscript>\"</noscript>", "<head>a</head>", "<iframe>a</iframe>", "<noembed>a</noembed>", "<noframes>a</noframes>",
		"<pre></pre>", "<pre>\n\t </pre>", "<textarea></textarea>", "<textarea>\n</textarea>", "<xmp> </xmp>",
		" ", "\t", "\n", "\r", "\r\n", "\f", "\x00", "&#32;", "&#10;", "&#13;", "&Tab;", "&NewLine;",
	}
	for _, a := range list {
		is(t, a, "")
		is(t, mark+a, "")
		for _, b := range list {
			is(t, a+b, "")
			is(t, a+"x"+b, "x")
		}
	}
	// Without an end all behind it is part of it.
	for _, s := range []string{"<script>'", "<title>&lt;", "<!--a", "<!a", "</ a", "<b", "<b x='", "</b", "<head>a", "<template><p>a", "<plaintext>", "<textarea>", "<!doctype"} {
		is(t, s, "")
		is(t, "x"+s, "x")
	}
}

// TestTextWithoutMarkup has text, each sign of it as it is, or written.
func TestTextWithoutMarkup(t *testing.T) {
	for _, s := range []string{"a", "abc", "a b", "a-b!", "1;2", "#65;", "amp;", "x=y", "a/b", "`", "\\", "[]{}()", "é€😀", "\u00a0", "\u2028", "\u0085", "\x01", "\x1f", "\x7f", "\v", bad, "\u2039\u203a\u201c\u2019\uff1c\uff06"} {
		is(t, s, s)
		is(t, s+" "+s, s+" "+s)
		is(t, " \n"+s+"\r\n", s)
	}
	are(t,
		part{"a\"b'c", "a&quot;b&#39;c"},
		part{"\"", "&quot;"},
		part{"'", "&#39;"},
		part{">", "&gt;"},
		part{"<", "&lt;"},
		part{"&", "&amp;"},
		part{"</", "&lt;/"},
		part{"a < b > c & d", "a &lt; b &gt; c &amp; d"},
		part{"<<>>", "&lt;&lt;&gt;&gt;"},
		part{"<1>'2'</1>\"3\"", "&lt;1&gt;&#39;2&#39;&quot;3&quot;"},
		part{"a--> b", "a--&gt; b"},
		part{"a  b\t\nc\r\n\r\nd", "a b c d"},
		part{"&;&#;&#x;&x;& amp;", "&amp;;&amp;#;&amp;#x;&amp;x;&amp; amp;"},
		part{"javascript:alert('x')", "javascript:alert(&#39;x&#39;)"},
		part{"x onclick=\"y\"", "x onclick=&quot;y&quot;"},
	)
}

// The names of chapter 17, each of one kind; what hides, keeps, or is void may be so for other reasons, too.
var (
	hide  = strings.Fields("head iframe noembed noframes noscript script style template title")
	twos  = strings.Fields("blockquote h1 h2 h3 h4 h5 h6 listing ol p pre table ul")
	ones  = strings.Fields("address article aside body center dd details dialog dir div dl dt fieldset figcaption figure footer form header hgroup hr html legend li main menu nav option search section summary tr")
	voids = strings.Fields("area base col embed img input link meta source track wbr")
	plain = strings.Fields("a abbr b button code em font i label s span strong svg td th u x x-y h7 prex titles")
)

// TestKinds has a tag of each name of chapter 17 about text, and some of which it tells nothing.
func TestKinds(t *testing.T) {
	about := func(names []string, edge string) {
		for _, name := range names {
			for _, n := range []string{name, strings.ToUpper(name)} {
				are(t,
					part{"a<" + n + ">b'</" + n + ">c", "a" + edge + "b&#39;" + edge + "c"},
					part{"a<" + n + " x='\"<&lt;'>&lt;</" + n + " >\"", "a" + edge + "&lt;" + edge + "&quot;"},
					part{"a<" + n + "/>&", "a" + edge + "&amp;"},
					part{"</" + n + ">a", "a"},
					part{"a&lt;" + n + ">b", "a&lt;" + n + "&gt;b"},
				)
			}
		}
	}
	about(twos, "\n\n")
	about(ones, "\n")
	about(voids, "")
	about(plain, "")
	about([]string{"br"}, "\n")
	for _, name := range hide {
		for _, n := range []string{name, strings.ToUpper(name)} {
			are(t,
				part{"a<" + n + ">b'</" + n + ">c", "ac"},
				part{"a <" + n + " x='>'>&lt;'\"</" + n + "/> '", "a &#39;"},
				part{"a<" + n + ">b", "a"},
				part{"a</" + n + ">'", "a&#39;"},
				part{"a&lt;" + n + ">b", "a&lt;" + n + "&gt;b"},
			)
		}
	}
	for name, edge := range map[string]string{"pre": "\n\n", "listing": "\n\n", "textarea": "", "xmp": "\n\n"} {
		are(t,
			part{"a<" + name + ">b  '\t\n \f>  c</" + name + ">d  e", "a" + edge + "b  &#39;\n \f&gt;  c" + edge + "d e"},
			part{"<" + name + ">\n\n a\n\n", "a"},
			part{"x</" + name + ">a  b", "x" + edge + "a b"},
		)
	}
	are(t,
		part{"a<plaintext>b  <i>\n</plaintext>", "a\n\nb  &lt;i&gt;\n&lt;/plaintext&gt;"},
		part{"a<br><br>b<p><br>c", "a\n\nb\n\n\nc"},
		part{"<ul>\n<li>a</li>\n<li>b</li>\n</ul>c", "a\nb\n\nc"},
		part{"<head>'a'<body>'b'", "&#39;b&#39;"},
		part{"<!doctype html>\r\n<html><head><title>\"</title></head>\r\n<body>\r\n<h1>a</h1>\r\n<p>b & c</p>", "a\n\nb &amp; c"},
	)
}

// reads are references, by what is left of them.
var reads = []struct {
	left string
	of   []string
}{
	{"&lt;", strings.Fields("&lt; &LT; &#60; &#x3c; &#X3C; &#00060; &lt &LT &#60 &#x3C")},
	{"&gt;", strings.Fields("&gt; &GT; &#62; &#x3e; &#x000003E; &gt &GT &#62 &#X3e")},
	{"&quot;", strings.Fields("&quot; &QUOT; &#34; &#x22; &quot &QUOT &#34 &#x22")},
	{"&#39;", strings.Fields("&apos; &#39; &#x27; &#39 &#X27")},
	{"&amp;", strings.Fields("&amp; &AMP; &#38; &#x26; &amp &AMP &#38 &#x26")},
	{bad, strings.Fields("&#0; &#x0; &#000; &#0 &#x0 &#xD800; &#xDFFF &#1114112; &#99999999999999999999999;")},
	{written, strings.Fields("&#65279; &#xFEFF; &#xfeff; &#X0feff; &#65279 &#xFEFF")},
	{"\u00a0", strings.Fields("&nbsp; &nbsp &#160; &#xa0")},
	{"\u20ac", strings.Fields("&euro; &#128; &#x80 &#8364;")},
	{"\u00a9", strings.Fields("&copy; &copy &COPY")},
	{"\u2242\u0338", strings.Fields("&NotEqualTilde;")},
	{"\u226b\u20d2", strings.Fields("&nGt;")},
	{"\u2260", strings.Fields("&ne;")},
	{"&amp;apos", strings.Fields("&apos")},
	{"&amp;Lt", strings.Fields("&Lt")},
}

// TestReferences has them in text, in quotes, beside each other, in what keeps blanks, and in a tag, where nothing is left of them.
func TestReferences(t *testing.T) {
	for _, r := range reads {
		for _, s := range r.of {
			are(t,
				part{s, r.left},
				part{" " + s + " ", r.left},
				part{"-" + s + "-", "-" + r.left + "-"},
				part{s + s, r.left + r.left},
				part{"\"" + s + "\"", "&quot;" + r.left + "&quot;"},
				part{"'" + s + "'", "&#39;" + r.left + "&#39;"},
				part{"<p>" + s + "</p>" + s, r.left + "\n\n" + r.left},
				part{"<pre>a " + s + " b</pre>", "a " + r.left + " b"},
				part{"<textarea>" + s + "</textarea>", r.left},
				part{"<xmp>" + s + "</xmp>", "&amp;" + s[1:]},
				part{"a<b x='" + s + "'>b", "ab"},
				part{"a<b x=\"" + s + "\">b", "ab"},
				part{"a<b x=" + s + ">b", "ab"},
				part{"a<!--" + s + "-->b", "ab"},
				part{"a<title>" + s + "</title>b", "ab"},
				part{"a<" + s + "p>b", "a&lt;" + r.left + "p&gt;b"},
				part{"a&amp;" + s[1:], "a&amp;" + s[1:]},
			)
			// A bracket, or a quote, that a reference tells marks nothing up.
			are(t,
				part{s + "script>a" + s + "/script>", r.left + "script&gt;a" + r.left + "/script&gt;"},
				part{s + "!--a-->", r.left + "!--a--&gt;"},
				// Within a tag's name it is part of the name, and so of one that hides nothing.
				part{"<title" + s + ">a", "a"},
			)
		}
	}
}

// TestLinesByReferences has 13 and 10 told by them.
func TestLinesByReferences(t *testing.T) {
	for _, e := range strings.Fields("&#13; &#13 &#xD; &#xd &#10; &#10 &#x0A; &#xa &NewLine; &#0000010;") {
		are(t,
			part{e, ""},
			part{"a" + e + "-", "a -"},
			part{"a" + e + e + " -", "a -"},
			part{e + "-a" + e, "-a"},
			part{"\"" + e + "\"", "&quot; &quot;"},
			part{"<pre>a" + e + "-</pre>", "a\n-"},
			part{"<pre>" + e + "-</pre>", "-"},
			part{"<pre>a" + e + e + "-</pre>", "a\n\n-"},
			part{"<textarea>" + e + "-" + e + "-</textarea>", "-\n-"},
			part{"<xmp>a" + e + "</xmp>", "a&amp;" + e[1:]},
			part{"a<b x='" + e + "'>b", "ab"},
		)
	}
	are(t,
		part{"<pre>a&#13;&#10;b", "a\n\nb"},
		part{"<pre>a\r&#10;b", "a\n\nb"},
		part{"<pre>a&#13;\nb", "a\n\nb"},
		part{"<pre>a\r\nb", "a\nb"},
	)
}

// TestMarkedUpTwice has what is marked up twice: what is left of it is marked up twice, too, as one step alone is read.
func TestMarkedUpTwice(t *testing.T) {
	for _, s := range []string{
		"&amp;lt;", "&amp;amp;", "&amp;amp;lt;", "&amp;gt;", "&amp;quot;", "&amp;#39;", "&amp;#60;", "&amp;#x3C;", "&amp;#13;", "&amp;#0;", "&amp;#65279;", "&amp;nbsp;", "&amp;lt",
		"&lt;b&gt;", "&lt;script&gt;a&lt;/script&gt;", "&amp;lt;script&amp;gt;a&amp;lt;/script&amp;gt;", "&lt;!--a--&gt;", "&lt;b x=&quot;y&quot; z=&#39;&amp;lt;&#39;&gt;", "&amp;notit;", "&amp;copy=1",
	} {
		// What is left once is left ever.
		is(t, s, s)
		for _, dest := range dests {
			if got := Twice(dest, []byte(s)); got != s {
				t.Errorf("%d, %s: twice %s", dest, short(s), short(got))
			}
		}
	}
	are(t,
		part{"&#38;lt;", "&amp;lt;"},
		part{"&#x26;#60;", "&amp;#60;"},
		part{"&AMPlt;", "&amp;lt;"},
		part{"&amplt;", "&amp;lt;"},
		part{"&lt;p>", "&lt;p&gt;"},
		part{"&amp;<b>lt;", "&amp;lt;"},
		part{"&am<b>p;lt;", "&amp;amp;lt;"},
		part{"&l<b>t;", "&amp;lt;"},
		part{"&<!---->lt;", "&amp;lt;"},
		part{"<<b>script>a", "&lt;script&gt;a"},
		part{"<scr<b>ipt>a", "ipt&gt;a"},
		part{"<</>script>a</</>/script>", "&lt;script&gt;a/script&gt;"},
		part{"<script></script><<script></script>script>a", "&lt;script&gt;a"},
		part{"<textarea>&lt;/textarea><b></textarea>", "&lt;/textarea&gt;&lt;b&gt;"},
		part{"<xmp>&lt;/xmp><b></xmp>", "&amp;lt;/xmp&gt;&lt;b&gt;"},
		part{"<plaintext>&amp;lt;<b>", "&amp;amp;lt;&lt;b&gt;"},
	)
}

// TestBytesThatAreNoSign has them, and marks, anywhere.
func TestBytesThatAreNoSign(t *testing.T) {
	for s, n := range map[string]int{"\x80": 1, "\xbf": 1, "\xc0": 1, "\xc1": 1, "\xf5": 1, "\xff": 1, "\xfe\xff": 2, "\xc0\xbc": 2, "\xe0\x80\xbc": 3, "\xf0\x80\x80\xbc": 4, "\xed\xa0\x80": 3, "\xf4\x90\x80\x80": 4, "\xc3": 1, "\xe2": 1, "\xe2\x82": 1, "\xf0\x9f\x98": 1, "\xe2\x82\xe2\x82": 2, "\xef": 1, "\xef\xbb": 1, "\xbb\xbf": 2} {
		w := strings.Repeat(bad, n)
		are(t,
			part{s, w},
			part{"a" + s + ".", "a" + w + "."},
			part{s + "<b>" + s + "</b>'" + s, w + w + "&#39;" + w},
			part{s + "&lt;" + s, w + "&lt;" + w},
			part{"<p x='" + s + "'>a<p " + s + ">b", "a\n\nb"},
			part{"<" + s + "b>", "&lt;" + w + "b&gt;"},
			part{"&" + s + "lt;", "&amp;" + w + "lt;"},
			part{mark + s, w},
			part{"<script>" + s + "</script>a", "a"},
			part{"<textarea>" + s + "<b>", w + "&lt;b&gt;"},
		)
	}
	are(t,
		part{mark, ""},
		part{mark + "a", "a"},
		part{mark + "<b>a", "a"},
		part{mark + "\r\n'", "&#39;"},
		part{mark + mark, written},
		part{mark + mark + "a", written + "a"},
		part{mark + mark + mark, written + written},
		part{"a" + mark, "a" + written},
		part{"a" + mark + "b", "a" + written + "b"},
		part{" " + mark + "b", written + "b"},
		part{"<b>" + mark + "b", written + "b"},
		part{"\x00" + mark, written},
		part{mark + "&#xFEFF;a", written + "a"},
		part{"&#xFEFF;a", written + "a"},
		part{"\xff" + mark, bad + written},
		part{"<pre>" + mark + "\n a", written + "\n a"},
		part{"<textarea>" + mark + "</textarea>", written},
		part{"<b x='" + mark + "'>a", "a"},
		part{"<title>" + mark + "</title>a", "a"},
		part{"<" + mark + "b>", "&lt;" + written + "b&gt;"},
		part{"\xef\xbb\x00\xbf", bad + bad},
		part{"\xef\xbb<b>\xbf", bad + bad},
	)
	are(t,
		part{"a\x00b", "ab"},
		part{"&am\x00p;", "&amp;amp;"},
		part{"\x00&lt;\x00", "&lt;"},
		part{"<textarea>a\x00</textarea>b", "a" + bad + "b"},
		part{"<plaintext>\x00", bad},
		part{"<xmp>\x00<\x00</xmp>", bad + "&lt;" + bad},
	)
}

// TestBeginnings has what would begin with a line's end.
func TestBeginnings(t *testing.T) {
	for _, e := range []string{"\n", "\r", "\r\n", "\n\n", "\n\r", "\r\r", " \n", "\n ", "\t\n", "\f\n", "\x00\n", mark + "\n", "<p>", "<br>", "<br><br>", "<hr>", "<li>", "</p>", "<p>\n<br>", "&#10;", "&#13;", "&NewLine;", "<!---->\n", "<b>\n", "\n<b>\n", "<textarea>\n", "<textarea>\n\n", "<textarea>\r\n", "<textarea>\r", "<textarea>&#10;", "<textarea>\n</textarea>\n", "<pre>\n", "<pre>\n\n", "<pre>\r\n\r", "<pre>&#13;&#10;", "<pre>\n<p>\n", "<listing>\n", "<xmp>\n", "<xmp>\r\n\r\n", "<plaintext>\n", "<title>\n</title>\n", "<script>a</script>\n", "<head>\n</head>\n<body>\n"} {
		is(t, e, "")
		for s, left := range map[string]string{"a": "a", "'": "&#39;", "<": "&lt;", "\xff": bad, "\u00a0": "\u00a0"} {
			is(t, e+s, left)
			if got := check(t, e+s+e+s); !strings.HasPrefix(got, left) {
				t.Errorf("%s: %s", short(e+s+e+s), short(got))
			}
		}
	}
	are(t,
		part{"\n\na\n\nb\n\n", "a b"},
		part{"<pre>\n\na\n\nb\n\n", "a\n\nb"},
		part{"<textarea>\n\na\n\nb\n\n", "a\n\nb"},
		part{"<p><br>a<br>b<br><p>", "a\nb"},
	)
}

// TestTextsWithin has each name that chapter 16 reads otherwise, with its end tag and without one.
func TestTextsWithin(t *testing.T) {
	const (
		within = "a <b x='y'>c</b> &lt;&amp;&#39<!--d--><p>"
		asIs   = "a &lt;b x=&#39;y&#39;&gt;c&lt;/b&gt; &amp;lt;&amp;amp;&amp;#39&lt;!--d--&gt;&lt;p&gt;"
		read   = "a &lt;b x=&#39;y&#39;&gt;c&lt;/b&gt; &lt;&amp;&#39;&lt;!--d--&gt;&lt;p&gt;"
	)
	for _, name := range strings.Fields("title textarea style xmp iframe noembed noframes noscript script plaintext") {
		said, edge := "", ""
		switch name {
		case "textarea":
			said = read
		case "xmp", "plaintext":
			said, edge = asIs, "\n\n"
		}
		for _, n := range []string{name, strings.ToUpper(name), name + " x='>'", name + "/", name + "\n"} {
			is(t, "x<"+n+">"+within, "x"+edge+said)
			end := "</" + n + ">"
			if name == "plaintext" {
				is(t, "x<"+n+">"+within+"</plaintext>z", "x\n\n"+asIs+"&lt;/plaintext&gt;z")
				continue
			}
			are(t,
				part{"x<" + n + ">" + within + end + "z", "x" + edge + said + edge + "z"},
				part{"x<" + n + ">" + end + within, "x" + edge + "a c &lt;&amp;&#39;"},
			)
		}
	}
	are(t,
		// What isn't its own end tag ends none; one that has no end itself ends it.
		part{"a<textarea>'</textareax></ textarea></title></textarea>'", "a&#39;&lt;/textareax&gt;&lt;/ textarea&gt;&lt;/title&gt;&#39;"},
		part{"a<xmp>'</xmpx></ xmp></pre></xmp>'", "a\n\n&#39;&lt;/xmpx&gt;&lt;/ xmp&gt;&lt;/pre&gt;\n\n&#39;"},
		part{"a<title>'</titles></ title></textarea></title>'", "a&#39;"},
		part{"a<textarea>'</textarea<", "a&#39;&lt;/textarea&lt;"},
		part{"a<textarea>'</textarea <", "a&#39;"},
		part{"a<xmp>'</xmp", "a\n\n&#39;&lt;/xmp"},
		part{"a<xmp>'</xmp/", "a\n\n&#39;"},
		part{"a<style>'</style", "a"},
		part{"a<script><!--<script>'</script>b</script>c", "ac"},
		part{"a<script><!--'--></script>\"", "a&quot;"},
		part{"a<script>'</script>'</script>'", "a&#39;&#39;"},
		part{"<textarea>&lt;/textarea>b</textarea>'", "&lt;/textarea&gt;b&#39;"},
	)
}

// TestNowhere tells nothing of any other destination, whatever the bytes.
func TestNowhere(t *testing.T) {
	for _, dest := range nowheres {
		for _, s := range []string{"", "a", "\na", "<b>a</b> &lt;i>", "&", "<p>a<p>b", "\x00", "\xff", mark + mark, "?", "&#xFEFF;", "<textarea>\n\na", "&amp;lt;", strings.Repeat("a<p>", 1000)} {
			if once, twice := Sanitize(dest, []byte(s)), Twice(dest, []byte(s)); once != "" || twice != "" {
				t.Errorf("%d, %s: %s and %s, want nothing", dest, short(s), short(once), short(twice))
			}
		}
	}
}

// TestTwice has inputs of which it isn't what Sanitize leaves, and some of which it is.
func TestTwice(t *testing.T) {
	for _, c := range []struct{ in, once, twice string }{
		{"", "", ""},
		{"a", "a", "a"},
		{"a b", "a b", "a b"},
		{"a &lt;b>", "a &lt;b&gt;", "a &lt;b&gt;"},
		{"<b>'</b>\"&amp;", "&#39;&quot;&amp;", "&#39;&quot;&amp;"},
		{"&amp;lt;", "&amp;lt;", "&amp;lt;"},
		{"&amp;amp;amp;", "&amp;amp;amp;", "&amp;amp;amp;"},
		{"&#xFEFF;a", written + "a", written + "a"},
		{mark + mark + "a", written + "a", written + "a"},
		{mark + mark + mark, written + written, written + written},
		{"\xff", bad, bad},
		{"<textarea>\x00", bad, bad},
		{"&nbsp;a&nbsp;", "\u00a0a\u00a0", "\u00a0a\u00a0"},
		{"&copy=1", "\u00a9=1", "\u00a9=1"},
		{"<plaintext><b>&lt;", "&lt;b&gt;&amp;lt;", "&lt;b&gt;&amp;lt;"},
		// Lines become blanks, and blanks that were kept become one.
		{"<p>a<p>b", "a\n\nb", "a b"},
		{"a<br>b", "a\nb", "a b"},
		{"<li>a<li>b", "a\nb", "a b"},
		{"<pre>a  b</pre>", "a  b", "a b"},
		{"<pre>a\tb\fc</pre>", "a\tb\fc", "a b c"},
		{"<pre>\na\n b", "a\n b", "a b"},
		{"<textarea>a \n\n b</textarea>", "a\n\n b", "a b"},
		{"&lt;pre><pre>a  b", "&lt;pre&gt;\n\na  b", "&lt;pre&gt; a b"},
		{"&lt;br><p>&lt;br>", "&lt;br&gt;\n\n&lt;br&gt;", "&lt;br&gt; &lt;br&gt;"},
		{"&#xFEFF;<p>&#xFEFF;", written + "\n\n" + written, written + " " + written},
	} {
		is(t, c.in, c.once)
		for _, dest := range dests {
			if got := Twice(dest, []byte(c.in)); got != c.twice {
				t.Errorf("%d, %s: twice %s, want %s", dest, short(c.in), short(got), short(c.twice))
			}
			// A third step, and a fourth one, change nothing any more.
			if got := Twice(dest, []byte(c.twice)); got != c.twice {
				t.Errorf("%d, %s: four times %s, want %s", dest, short(c.in), short(got), short(c.twice))
			}
		}
	}
}

// words are parts that begin and end with what is no blank, and mean the same whatever is beside them.
var words = []part{
	{"a", "a"}, {"xyz", "xyz"}, {"é", "é"}, {"😀", "😀"}, {"\xff.", bad + "."}, {"\xe2\x82.", bad + "."}, {"'", "&#39;"}, {"\"", "&quot;"}, {">", "&gt;"}, {"1<2", "1&lt;2"}, {"-->", "--&gt;"}, {"&;", "&amp;;"}, {"&z;", "&amp;z;"}, {"-&-", "-&amp;-"},
	{"&lt;", "&lt;"}, {"&lt.", "&lt;."}, {"&#62;", "&gt;"}, {"&#x3E.", "&gt;."}, {"&QUOT.", "&quot;."}, {"&apos;", "&#39;"}, {"&#39.", "&#39;."}, {"&amp;", "&amp;"}, {"&amp;lt;", "&amp;lt;"}, {"&#0;", bad}, {"&#xD800;", bad}, {"&notit;", "\u00acit;"}, {"&nbsp;", "\u00a0"}, {"&lt;b>", "&lt;b&gt;"},
	{"." + mark + ".", "." + written + "."}, {".&#xFEFF;", "." + written}, {"\x00.\x00", "."}, {"<1 x='y'>", "&lt;1 x=&#39;y&#39;&gt;"},
	{"a<pre> b  c\r\n\td </pre>e", "a\n\n b  c\n\td\n\ne"}, {"a<listing>b&#13;&Tab;</listing>c", "a\n\nb\n\nc"}, {"a<textarea>\nb  <i>&lt;&amp;lt;</textarea>c", "a\nb  &lt;i&gt;&lt;&amp;lt;c"}, {"a<xmp>&lt; <b>'\x00</xmp>c", "a\n\n&amp;lt; &lt;b&gt;&#39;" + bad + "\n\nc"},
}

// gaps are parts that may stand between words.
var gaps = []part{
	{"", ""}, {"", ""}, {" ", " "}, {" ", " "}, {"\r\n", " "}, {"\t<b> </b>\f", " "}, {"&#32;&#13;", " "}, {"<br>", "\n"}, {" <br/> ", "\n"}, {"<p>", "\n\n"}, {"</p>\r\n<p x='>'>", "\n\n"}, {"<li>", "\n"}, {"<hr><li>", "\n"}, {"<BR><br>", "\n\n"}, {"<h1><br>", "\n\n\n"},
	{"<!-- > -->", ""}, {"</>", ""}, {"<script>'<b>&lt;</script>", ""}, {"<script><!--<script></script>'</script>", ""}, {"<title>\"<p></title>", ""}, {"<style>&lt;</style>", ""}, {"<b x='>' y=\"&lt;\">", ""}, {"</b \r>", ""}, {"\x00", ""}, {"<?x'>", ""}, {"<!doctype '>", ""}, {"<head>x</head>", ""}, {"<noscript><p>x</p></noscript>", ""}, {"<img/>", ""},
}

// firsts and lasts are parts that may begin and end a page.
var (
	firsts = []part{{"", ""}, {mark, ""}, {mark + " \n", ""}, {"\n", ""}, {"\r\n", ""}, {"\r", ""}, {"<p>", ""}, {"<br><br>", ""}, {"\x00", ""}, {"<!DOCTYPE html>\r\n<html><head><title>'</title></head>\n<body>", ""}, {"<head>'<body>", ""}, {"<textarea>\n</textarea>", ""}, {"<!--a-->", ""}}
	lasts  = []part{{"", ""}, {" ", ""}, {"\r\n", ""}, {"</p>", ""}, {"<br>", ""}, {"<!--x", ""}, {"<b x='", ""}, {"<script>x", ""}, {"<title>x", ""}, {"<pre> \n", ""}, {"<template>'", ""}, {"<plaintext>z<b> &lt;", "\n\nz&lt;b&gt; &amp;lt;"}, {"<xmp>z'", "\n\nz&#39;"}, {"<textarea>z\"\n", "z&quot;"}, {"<", "&lt;"}, {"</", "&lt;/"}, {"&", "&amp;"}, {"&am", "&amp;am"}, {"&lt", "&lt;"}, {"\xf0\x9f", bad}}
)

// one draws one of those.
func one(r *rand.Rand, of []part) part { return of[r.IntN(len(of))] }

// behind is parts one behind the other.
func behind(list ...part) part {
	var all part
	for _, p := range list {
		all.in += p.in
		all.left += p.left
	}
	return all
}

// word draws a word, or a page of some within tags, so many of these deep at most.
func word(r *rand.Rand, deep int) part {
	if deep == 0 || r.IntN(4) != 0 {
		return one(r, words)
	}
	p := run(r, deep-1)
	switch r.IntN(4) {
	case 0:
		return part{".<i x>" + p.in + "</i>.", "." + p.left + "."}
	case 1:
		return part{".<div>" + p.in + " </div>.", ".\n" + p.left + "\n."}
	case 2:
		return part{".<ul>\r" + p.in + "</ul>.", ".\n\n" + p.left + "\n\n."}
	}
	return part{".<template>" + p.in + "</template>.", ".."}
}

// run draws words with gaps between them.
func run(r *rand.Rand, deep int) part {
	p := word(r, deep)
	for range r.IntN(6) {
		p = behind(p, one(r, gaps), word(r, deep))
	}
	return p
}

// TestDrawnPages draws pages of which it knows what is left.
func TestDrawnPages(t *testing.T) {
	r := rand.New(rand.NewPCG(22, 1))
	same, other := 0, 0
	for range 10000 {
		p := behind(one(r, firsts), run(r, 2), one(r, lasts))
		is(t, p.in, p.left)
		if Twice(api.ToAttr, []byte(p.in)) == p.left {
			same++
		} else {
			other++
		}
		if t.Failed() {
			return
		}
	}
	if same < 1000 || other < 1000 {
		t.Errorf("%d pages are left as they were left, %d aren't", same, other)
	}
}

// eachText hands all texts of n of those to see.
func eachText(of []string, n int, see func(string)) {
	if n == 0 {
		see("")
		return
	}
	eachText(of, n-1, func(s string) {
		for _, last := range of {
			see(s + last)
		}
	})
}

// TestAllShortInputs has all that can be made of a few pieces, and all pairs of bytes.
func TestAllShortInputs(t *testing.T) {
	for _, c := range []struct {
		of   []string
		most int
	}{
		{[]string{"a", " ", "<", ">", "/", "\r", "\n", "!", "&", "'", "\"", "\xe2", "\x00"}, 3},
		{[]string{"&", "amp;", "lt;", "#", "13", "65279", ";", "<b>"}, 4},
		{[]string{"\xef", "\xbb", "\xbf", "a", "\n", "&"}, 5},
		{[]string{"\n", "\r", "<p>", "<pre>", "</pre>", "<textarea>", "a", "&#10;"}, 4},
		{[]string{"<script>", "</script>", "<title>", "</title>", "<xmp>", "'", "&lt;", "<head>", "<body>"}, 4},
	} {
		for n := range c.most + 1 {
			eachText(c.of, n, func(s string) { check(t, s) })
		}
	}
	for a := range 256 {
		check(t, string([]byte{byte(a)}))
		for b := range 256 {
			check(t, string([]byte{byte(a), byte(b)}))
		}
	}
}

// drawn draws bytes of all kinds, and pieces of markup between them.
func drawn(r *rand.Rand) string {
	some := strings.Fields("< > / </ <!-- --> --!> <! <? & ; &# &#x &lt &amp; &lt; &quot; &#0; &#13; &#10; &#xFEFF; ' \" = a b 1 é 😀 <!doctype amp; lt;")
	some = append(some, " ", "\t", "\r", "\n", "\r\n", "\x00", mark, "\xef", "\xbb", bad, "&amp;lt;")
	for _, name := range slices.Concat(hide, []string{"pre", "textarea", "xmp", "plaintext", "body", "p", "br", "li", "b"}) {
		some = append(some, "<"+name+">", "</"+name+">", "<"+name)
	}
	var b []byte
	for range r.IntN(24) {
		switch r.IntN(5) {
		case 0:
			b = append(b, byte(r.IntN(256)))
		case 1:
			b = append(b, byte(128+r.IntN(128)))
		default:
			b = append(b, some[r.IntN(len(some))]...)
		}
	}
	return string(b)
}

func TestDrawnBytes(t *testing.T) {
	r := rand.New(rand.NewPCG(22, 2))
	for range 30000 {
		check(t, drawn(r))
	}
}

// alike tells whether two lists of tokens say the same.
func alike(a, b []api.Token) bool {
	return slices.EqualFunc(a, b, func(x, y api.Token) bool {
		return x.Kind == y.Kind && x.Name == y.Name && x.Text == y.Text && x.Self == y.Self && slices.Equal(x.Attrs, y.Attrs)
	})
}

// checkPlaces puts what is left of an input into each of the seven states: it adds text alone, and what stands behind it is read as if it weren't there.
func checkPlaces(t *testing.T, in, behind string) {
	t.Helper()
	said := extract.Extract([]byte(in))
	left := Sanitize(api.ToRcdata, []byte(in))
	names := []string{api.Data: "", api.Rcdata: "title", api.Rawtext: "style", api.Script: "script", api.Plaintext: "plaintext"}
	for state, name := range names {
		text := left
		if state == api.Data || state == api.Rcdata {
			text = said
		}
		want := tok.Join(append([]api.Token{{Kind: api.Text, Text: text}}, tok.Tok(behind, state, name)...))
		if got := tok.Tok(left+behind, state, name); !alike(got, want) {
			t.Errorf("%s in state %d, with %s behind it, is read otherwise", short(left), state, short(behind))
		}
	}
	for _, quote := range []string{"\"", "'"} {
		more := strings.ReplaceAll(behind, quote, "")
		l := drive.Drive("<a x=" + quote + left + more + quote + ">")
		if len(l) != 1 || l[0].Name != "a" || len(l[0].Attrs) != 1 || l[0].Attrs[0].Value != strings.ReplaceAll(said+ref.Decode(more, true), "\x00", bad) {
			t.Errorf("%s in quotes %s, with %s behind it, is read otherwise", short(left), quote, short(more))
		}
	}
	l := drive.Drive("<textarea>" + left + "</textarea>")
	if said != "" && (len(l) != 3 || l[1].Text != said) || said == "" && len(l) != 2 {
		t.Errorf("%s in a text area is read otherwise", short(left))
	}
}

// TestPlaces puts what is left where texts are put.
func TestPlaces(t *testing.T) {
	after := []string{"", "a", ";", "amp;", "lt;", "=1", "&lt;", "&#60", "<b>", "</title>'", "</style>\"x", "</script><p>", "<!--a-->", "-->", "'>", "\">", ">", "/>", "<script></script>", "65;", "\n"}
	for _, in := range []string{"", "a", "&", "<", "&amp;lt", "&lt;/title>&lt;/style>&lt;/script>", "&lt;!--&lt;script>", "'\"", "--", "<textarea>\n&lt;/textarea>", mark + mark, "<plaintext></textarea></title></script>&amp", "&#38;", "&copy", "&am", "a="} {
		for _, s := range after {
			checkPlaces(t, in, s)
		}
	}
	r := rand.New(rand.NewPCG(22, 3))
	for range 10000 {
		checkPlaces(t, drawn(r), after[r.IntN(len(after))])
	}
}

// TestBounds has inputs of which so much is left as may be of their length, or nearly so.
func TestBounds(t *testing.T) {
	for _, c := range []part{{"\"", "&quot;"}, {"'", "&#39;"}, {"&", "&amp;"}, {">", "&gt;"}, {"<", "&lt;"}, {"\xff", bad}, {"\x80", bad}, {"\xc0\x80", bad + bad}, {"&#0", bad}, {"&#34", "&quot;"}, {"&GT", "&gt;"}, {"&LT", "&lt;"}, {"&#39", "&#39;"}, {"&nGt;", "\u226b\u20d2"}, {"a", "a"}, {"é", "é"}} {
		for _, n := range []int{1, 2, 3, 10, 1000} {
			is(t, strings.Repeat(c.in, n), strings.Repeat(c.left, n))
			is(t, "<textarea>"+strings.Repeat(c.in, n), strings.Repeat(c.left, n))
		}
	}
	for _, n := range []int{1, 2, 3, 10, 1000} {
		are(t,
			part{strings.Repeat("<b>", n), ""},
			part{"<textarea>" + strings.Repeat("<b>", n), strings.Repeat("&lt;b&gt;", n)},
			part{"<plaintext>" + strings.Repeat("\x00", n), strings.Repeat(bad, n)},
			part{mark + strings.Repeat(mark, n), strings.Repeat(written, n)},
			part{"a" + strings.Repeat(mark, n), "a" + strings.Repeat(written, n)},
			part{"<pre>a" + strings.Repeat("\n", n) + "b", "a" + strings.Repeat("\n", n) + "b"},
			part{strings.Repeat("\n", n) + "\"", "&quot;"},
			part{strings.Repeat("\"<p>", n), strings.TrimSpace(strings.Repeat("&quot;\n\n", n))},
		)
	}
	// Of no single byte more is left than six.
	for k := range 256 {
		if got := check(t, string([]byte{byte(k)})); len(got) > 6 {
			t.Errorf("%d: %s", k, short(got))
		}
	}
}

// TestLong has long inputs, and inputs of many tags and references.
func TestLong(t *testing.T) {
	const n = 8000
	text := strings.TrimSpace(strings.Repeat("abc ", n))
	are(t,
		part{text, text},
		part{"<p>" + text + "</p>'", text + "\n\n&#39;"},
		part{"<script>" + text + "</script>'", "&#39;"},
		part{"<!--" + text + "-->'", "&#39;"},
		part{"<b x='" + text + "'>\"", "&quot;"},
		part{"<textarea>\n" + text, text},
		part{"a" + strings.Repeat(" \r\n", n) + "b", "a b"},
		part{strings.Repeat("\n", n) + "a", "a"},
		part{"<pre>a" + strings.Repeat("\r\n", n) + "b", "a" + strings.Repeat("\n", n) + "b"},
		part{"&" + strings.Repeat("amp;", n), "&amp;" + strings.Repeat("amp;", n-1)},
		part{"&#" + strings.Repeat("0", n) + "60;", "&lt;"},
		part{"&#" + strings.Repeat("9", n) + ";", bad},
	)
	for _, c := range []part{{"<b>a</b>", "a"}, {"<p>a</p>", "a\n\n"}, {"a<br>", "a\n"}, {"&amp;", "&amp;"}, {"&#60;", "&lt;"}, {"&amp;lt;", "&amp;lt;"}, {"\"", "&quot;"}, {"'", "&#39;"}, {"a\xff", "a" + bad}, {"<!---->a", "a"}, {"<script>'</script>a", "a"}, {"<textarea>a <b></textarea>", "a &lt;b&gt;"}, {"<template>x</template>a", "a"}, {"<li>'", "&#39;\n"}, {"<", "&lt;"}, {"&", "&amp;"}, {"&#xFEFF;", written}, {"<pre>a  b</pre>", "a  b\n\n"}} {
		is(t, strings.Repeat(c.in, n), strings.TrimRight(strings.Repeat(c.left, n), "\n"))
	}
	for _, s := range []string{"<template>", "<head>", "<pre>", "<b ", "<!--", "<!", "</ ", "<title>", "<script><!--", "<b x='", "\x00", mark, "<plaintext>"} {
		check(t, strings.Repeat(s, n/10))
	}
	is(t, strings.Repeat("<template>", n)+strings.Repeat("</template>", n)+"'", "&#39;")
	is(t, strings.Repeat("<b>", n)+"'"+strings.Repeat("</b>", n), "&#39;")
}

// TestNothingIsChanged hands in bytes, and looks at them, and at those about them, behind the calls.
func TestNothingIsChanged(t *testing.T) {
	for _, s := range []string{"", "a", "plain text", mark + "a", "a\r\nb\rc", "a\x00\xff", "<P X=1>a &amp; b</P>", "<SCRIPT>x</SCRIPT>", "\xe2\x82", "<pre>a\r", "'\"", "&amp;lt;"} {
		for _, dest := range slices.Concat(dests, nowheres) {
			all := []byte("ahead" + s + "behind, and more")
			copied := slices.Clone(all)
			b := all[5 : 5+len(s)]
			once, twice := Sanitize(dest, b), Twice(dest, b)
			said, again := strings.Clone(once), strings.Clone(twice)
			if !slices.Equal(all, copied) {
				t.Errorf("%d, %s: changed to %s", dest, short(string(copied)), short(string(all)))
			}
			if Sanitize(dest, b) != said || Twice(dest, b) != again {
				t.Errorf("%d, %s: other answers the second time", dest, short(s))
			}
			// Who changes what was handed in changes no answer.
			for k := range all {
				all[k] = '!'
			}
			if once != said || twice != again {
				t.Errorf("%d, %s: %s and %s became %s and %s", dest, short(s), short(said), short(again), short(once), short(twice))
			}
		}
	}
}

// TestCallsBesideEachOther has several calls at a time, of the same bytes and of others.
func TestCallsBesideEachOther(t *testing.T) {
	list := []part{{"<b>a</b> &lt;i>", "a &lt;i&gt;"}, {"<p>a<p>b", "a\n\nb"}, {"&amp;lt;", "&amp;lt;"}, {"a\xff'", "a" + bad + "&#39;"}, {"<textarea>\na  b", "a  b"}, {mark + mark, written}}
	var shared [][]byte
	for _, p := range list {
		shared = append(shared, []byte(p.in))
	}
	var all sync.WaitGroup
	for first := range 8 {
		all.Go(func() {
			for k := range 300 {
				i, dest := (first+k)%len(list), (first+k)%5-1
				once, twice := list[i].left, folded(list[i].left)
				if dest < api.ToText || dest > api.ToRcdata {
					once, twice = "", ""
				}
				if got, again := Sanitize(dest, shared[i]), Twice(dest, shared[i]); got != once || again != twice {
					t.Errorf("%d, %s: %s and %s", dest, short(list[i].in), short(got), short(again))
				}
			}
		})
	}
	all.Wait()
}

func FuzzSanitize(f *testing.F) {
	for _, s := range []string{"", "<b>a</b> &lt;i>", "<p>a<p>b", mark + mark + "a\r\nb", "<pre>a\r b</pre>", "<head>a<body>b", "\xe2\x82A", "a\x00b&#0;", "<textarea>\n&lt;", "<script><!--<script></script></script>'", "<plaintext>\"", "&amp;lt;", "&#xFEFF;", "<b c='"} {
		f.Add([]byte(s), "</title>&lt;")
	}
	f.Fuzz(func(t *testing.T, b []byte, behind string) {
		copied := slices.Clone(b)
		check(t, string(b))
		if !slices.Equal(b, copied) {
			t.Errorf("%s changed", short(string(copied)))
		}
		checkPlaces(t, string(b), behind)
	})
}
