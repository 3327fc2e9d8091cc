package extract

import (
	"math/rand/v2"
	"regexp"
	"slices"
	"strconv"
	"strings"
	"sync"
	"testing"
	"unicode/utf8"

	"flail/drive"
	"flail/lines"
	"flail/render"
	"flail/utf"
)

// The names of chapter 17, and of chapter 16, told one by one here, so that the tests share no list with the program.
var (
	hiders  = strings.Fields("head iframe noembed noframes noscript script style template title")
	keepers = strings.Fields("listing plaintext pre textarea xmp")
	twos    = strings.Fields("blockquote h1 h2 h3 h4 h5 h6 listing ol p plaintext pre table ul xmp")
	ones    = strings.Fields("address article aside body center dd details dialog dir div dl dt fieldset figcaption figure footer form header hgroup hr html legend li main menu nav option search section summary tr")
	others  = strings.Fields("a abbr area audio b base bdi big button canvas caption cite code col del em embed font h7 i img input kbd label link map mark meta object param q rp ruby s select small span strong sub sup svg tbody td tfoot th thead time u var video wbr x")

	rawtexts = strings.Fields("style xmp iframe noembed noframes noscript")
)

const (
	bad    = "\uFFFD"
	mark   = "\xef\xbb\xbf"
	blanks = "\t\n\f\r "
)

// answer is an input, and what is to be read of it.
type answer struct{ in, want string }

// short is s, or so much of it as a failing test may tell.
func short(s string) string {
	if len(s) > 200 {
		return strconv.Quote(s[:200]) + ".."
	}
	return strconv.Quote(s)
}

// check holds what an input says against what the listed calls make of it, one behind the other, and against P20.2.
func check(t *testing.T, in string) string {
	t.Helper()
	got := Extract([]byte(in))
	if want := render.Render(drive.Drive(lines.Norm(utf.Decode([]byte(in))))); got != want {
		t.Errorf("%s: %s, want %s", short(in), short(got), short(want))
	}
	if !utf8.ValidString(got) {
		t.Errorf("%s: %s isn't just signs", short(in), short(got))
	}
	if strings.Trim(got, blanks) != got || strings.ContainsAny(got, "\x00\r") {
		t.Errorf("%s: %s isn't tidy", short(in), short(got))
	}
	if len(got) > 3*len(in) {
		t.Errorf("%s: %d bytes of %d", short(in), len(got), len(in))
	}
	return got
}

// is holds what an input says against a text.
func is(t *testing.T, in, want string) {
	t.Helper()
	if got := check(t, in); got != want {
		t.Errorf("%s: %s, want %s", short(in), short(got), short(want))
	}
}

// are holds each answer.
func are(t *testing.T, list ...answer) {
	t.Helper()
	for _, a := range list {
		is(t, a.in, a.want)
	}
}

// in is an element of that name, and ends is how many lines' ends there are about it.
func in(name, within string) string { return "<" + name + ">" + within + "</" + name + ">" }
func ends(name string) string {
	switch {
	case slices.Contains(twos, name):
		return "\n\n"
	case slices.Contains(ones, name):
		return "\n"
	}
	return ""
}

func TestExamples(t *testing.T) {
	is(t, "<p>a &amp; b</p><script>x</script>c", "a & b\n\nc")
	// Of the whole.
	are(t,
		answer{"<p>a<p>b", "a\n\nb"},
		answer{"a &lt;b>", "a <b>"},
		answer{"<script>a<!--<script></script></script>b", "b"},
		answer{"<title>a<b></title>", ""},
		answer{"&notit;", "\u00acit;"},
		answer{"<x y='&notit;'>", ""},
		answer{"&#128;", "\u20ac"},
		answer{"&#xD800;", bad},
		answer{"\xe2\x82A", bad + "A"},
		answer{"<!-->a-->", "a-->"},
		answer{"<a x='<b>' y/>", ""},
		answer{"c<a x='<b>' y/>d", "cd"},
	)
}

func TestNoBytes(t *testing.T) {
	for _, b := range [][]byte{nil, {}, make([]byte, 0, 10)} {
		if got := Extract(b); got != "" {
			t.Errorf("no bytes: %s", short(got))
		}
	}
	// Bytes that say nothing.
	for _, s := range []string{" ", "\n", "\t\r\n\f ", "\x00", "\x00 \x00", mark, mark + " ", "<b>", "<p></p><br>", "<pre> \n\t</pre>", "<!---->", "<!x>", "</>", "&#32;&#13;&Tab;", "<script>x", "<title>&amp;</title>"} {
		is(t, s, "")
	}
}

// TestSigns hands in signs of each length, and bytes that are none, in text.
func TestSigns(t *testing.T) {
	for _, s := range []string{"a", "\x01", "\x7f", "\u0080", "\u07ff", "\u0800", "\ud7ff", "\ue000", bad, "\uffff", "\U00010000", "\U0010ffff", "\u00a0", "\u2028", "aé€😀"} {
		is(t, s, s)
		is(t, "x"+s+"<p>"+s+"</p>"+s, "x"+s+"\n\n"+s+"\n\n"+s)
	}
	for _, c := range []struct{ in, want string }{
		{"\x80", bad}, {"\xbf", bad}, {"\xc0", bad}, {"\xc1", bad}, {"\xf5", bad}, {"\xff", bad}, {"\xfe\xff", bad + bad},
		{"\xc0\xbc", bad + bad}, {"\xe0\x80\xbc", bad + bad + bad}, {"\xf0\x80\x80\xbc", strings.Repeat(bad, 4)},
		{"\xed\xa0\x80", bad + bad + bad}, {"\xed\x9f", bad}, {"\xf4\x90\x80\x80", strings.Repeat(bad, 4)}, {"\xf4\x8f\xbf", bad},
		{"\xc3", bad}, {"\xe2", bad}, {"\xe2\x82", bad}, {"\xf0\x9f", bad}, {"\xf0\x9f\x98", bad}, {"\xe2\x82\xe2\x82", bad + bad}, {"\xf0\x9f\xc3\xa9", bad + "é"},
	} {
		is(t, c.in, c.want)
		is(t, c.in+"a", c.want+"a")
		is(t, "a"+c.in+"b", "a"+c.want+"b")
		is(t, "a"+c.in, "a"+c.want)
		is(t, mark+c.in, c.want)
		// What marks up behind them is markup still.
		is(t, c.in+"<p>"+c.in+"&lt;"+c.in+"<br>"+c.in, c.want+"\n\n"+c.want+"<"+c.want+"\n"+c.want)
	}
	// Two bytes are one, or two bytes, but no bracket.
	is(t, "\xc0\xbcp>a", bad+bad+"p>a")
	is(t, "a\xe0\x80\xbcp>b", "a"+bad+bad+bad+"p>b")
}

// TestMark hands in a mark at the beginning, and elsewhere, where it is a sign as any.
func TestMark(t *testing.T) {
	are(t,
		answer{mark, ""},
		answer{mark + "a", "a"},
		answer{mark + " \r\na", "a"},
		answer{mark + "<p>a", "a"},
		answer{mark + mark, "\ufeff"},
		answer{mark + mark + "a", "\ufeffa"},
		answer{mark + mark + mark, "\ufeff\ufeff"},
		answer{"a" + mark, "a\ufeff"},
		answer{"a" + mark + "b", "a\ufeffb"},
		answer{" " + mark + "b", "\ufeffb"},
		answer{"\x00" + mark + "b", "\ufeffb"},
		answer{"<p>" + mark + "b", "\ufeffb"},
		answer{"<pre>" + mark + " b</pre>", "\ufeff b"},
		answer{"&#xFEFF;b", "\ufeffb"},
		answer{"\xef", bad},
		answer{"\xef\xbb", bad},
		answer{"\xef\xbba", bad + "a"},
		answer{"\xef\xbb" + mark, bad + "\ufeff"},
		answer{"\xff" + mark, bad + "\ufeff"},
		answer{mark + "\xef\xbb", bad},
		// Of a mark that is taken away nothing stays within markup, and no other one is taken away there.
		answer{mark + "<title>x</title>a", "a"},
		answer{"<" + mark + "p>a", "<\ufeffp>a"},
		answer{"a<p" + mark + ">b", "ab"},
		answer{"a</" + mark + ">b", "ab"},
		answer{"&" + mark + "amp;", "&\ufeffamp;"},
	)
}

// TestBadBytesWithin hands in what can't be a sign within markup: it ends nothing there, takes nothing away, and makes a name another one.
func TestBadBytesWithin(t *testing.T) {
	for _, b := range []string{"\xff", "\x80", "\xc0\x80", "\xe2", "\xe2\x82", "\xf0\x9f\x98", "\xed\xa0\x80", "é", "😀"} {
		shown := strings.ToValidUTF8(b, bad)
		switch b {
		case "\xc0\x80":
			shown = bad + bad
		case "\xed\xa0\x80":
			shown = bad + bad + bad
		}
		are(t,
			answer{"a<p " + b + ">b", "a\n\nb"},
			answer{"a<p x" + b + ">b", "a\n\nb"},
			answer{"a<p " + b + "=" + b + ">b", "a\n\nb"},
			answer{"a<p x='" + b + "'>b", "a\n\nb"},
			answer{"a<p x=\"" + b + "\">b", "a\n\nb"},
			answer{"a<p x='>" + b + "'>b", "a\n\nb"},
			answer{"a<p x=y" + b + "/>b", "a\n\nb"},
			answer{"a<p" + b + ">b", "ab"},
			answer{"a<script" + b + ">b</script>c", "abc"},
			answer{"a<script>b</script" + b + ">c", "a"},
			answer{"a<script>b</script " + b + ">c", "ac"},
			answer{"a<" + b + "p>b", "a<" + shown + "p>b"},
			answer{"a</" + b + "p>b", "ab"},
			answer{"a<!--" + b + "-->b", "ab"},
			answer{"a<!--x-" + b + "->b-->c", "ac"},
			answer{"a<!" + b + ">b", "ab"},
			answer{"a<?" + b + ">b", "ab"},
			answer{"a<!doctype " + b + ">b", "ab"},
			answer{"a<style>" + b + "</style>b", "ab"},
			answer{"a<title>" + b + "</title>b", "ab"},
			answer{"<textarea>" + b + "</textarea>b", shown + "b"},
			answer{"<xmp>" + b + "</xmp>b", shown + "\n\nb"},
			answer{"<plaintext>" + b + "<b>", shown + "<b>"},
			answer{"<pre>a " + b + " b</pre>", "a " + shown + " b"},
			answer{"&" + b + "amp;", "&" + shown + "amp;"},
			answer{"&am" + b + "p;", "&am" + shown + "p;"},
			answer{"&amp" + b + ";", "&" + shown + ";"},
			answer{"&#6" + b + "5;", "\x06" + shown + "5;"},
			answer{"a " + b, "a " + shown},
			answer{b + " a", shown + " a"},
			answer{"a<p" + b, "a"},
			answer{"a<p x='" + b, "a"},
			answer{"a<!--" + b, "a"},
			answer{"a<script>" + b, "a"},
			answer{"a</" + b, "a"},
		)
	}
}

// TestLinesEnds hands in each kind of them.
func TestLinesEnds(t *testing.T) {
	for _, e := range []string{"\r\n", "\r", "\n"} {
		are(t,
			answer{"a" + e + "b", "a b"},
			answer{"a" + e + e + "b", "a b"},
			answer{"a " + e + "\tb", "a b"},
			answer{e + "a" + e, "a"},
			answer{"<pre>a" + e + "b</pre>", "a\nb"},
			answer{"<pre>a" + e + " b" + e + "x" + e + "</pre>", "a\n b\nx"},
			answer{"<pre>" + e + " a" + e + "</pre>b", "a\n\nb"},
			answer{"<pre>a" + e + e + e + "</pre>b", "a\n\n\nb"},
			answer{"<textarea>a" + e + "b</textarea>", "a\nb"},
			answer{"<xmp>a" + e + "b</xmp>", "a\nb"},
			answer{"<plaintext>a" + e + "b", "a\nb"},
			answer{"<listing>a" + e + "\tb</listing>", "a\n\tb"},
			// Within a tag it parts names, and ends one.
			answer{"a<p" + e + ">b", "a\n\nb"},
			answer{"a<p" + e + "x=1>b", "a\n\nb"},
			answer{"a<p x" + e + "=" + e + "'>'>b", "a\n\nb"},
			answer{"a<p x='" + e + "'>b", "a\n\nb"},
			answer{"a</p" + e + ">b", "a\n\nb"},
			answer{"a<script>b</script" + e + ">c", "ac"},
			answer{"a<title" + e + "x>b</title" + e + "x>c", "ac"},
			answer{"a<script><!--<script" + e + "></script" + e + "></script" + e + ">c", "ac"},
			answer{"a<!doctype" + e + "html>b", "ab"},
			answer{"a<!--" + e + "-->b", "ab"},
			answer{"a<!-" + e + "->b", "ab"},
			answer{"<" + e + "p>a", "< p>a"},
			answer{"a</" + e + "p>b", "ab"},
			answer{"a&amp" + e + ";b", "a& ;b"},
			answer{"a&" + e + "amp;b", "a& amp;b"},
		)
	}
	are(t,
		answer{"<pre>a\r\r\nb</pre>", "a\n\nb"},
		answer{"<pre>a\r\n\rb</pre>", "a\n\nb"},
		answer{"<pre>a\n\rb</pre>", "a\n\nb"},
		answer{"<pre>a\n\r\nb</pre>", "a\n\nb"},
		answer{"<pre>a\r\n\r\nb</pre>", "a\n\nb"},
		answer{"<pre>a\r\r\rb</pre>", "a\n\n\nb"},
		answer{"<pre>a\r \nb</pre>", "a\n\nb"},
		answer{"<pre>a\r\xff\nb</pre>", "a\n" + bad + "\nb"},
		answer{"<pre>a\r\x00\nb</pre>", "a\n\nb"},
		answer{"<pre>a\r<b>\nb</pre>", "a\n\nb"},
		answer{"<pre>a \rb\f\tc</pre>", "a\nb\f\tc"},
		answer{"a\fb\vc", "a b\vc"},
		answer{"a\u0085b\u2028c", "a\u0085b\u2028c"},
	)
	// Told by its number 13 is a blank as any, and one with 10 behind it is two lines' ends.
	for _, e := range []string{"&#13;", "&#13", "&#xD;", "&#x000d", "&#0013;"} {
		are(t,
			answer{"a" + e + "<b>b", "a b"},
			answer{e + " a " + e, "a"},
			answer{"<pre>x" + e + " b</pre>", "x\n b"},
			answer{"<pre>x" + e + "\n b</pre>", "x\n\n b"},
			answer{"<pre>x" + e + "\r\n b</pre>", "x\n\n b"},
			answer{"<pre>x\r" + e + "&#10; b</pre>", "x\n\n\n b"},
			answer{"<pre>x\r&#10; b</pre>", "x\n\n b"},
			answer{"<textarea>x" + e + "&NewLine;y</textarea>", "x\n\ny"},
			answer{"<xmp>x" + e + "</xmp>", "x" + e},
			answer{"a<p" + e + ">b", "ab"},
			answer{"a<p x='" + e + "'>b", "a\n\nb"},
		)
	}
}

func TestZero(t *testing.T) {
	are(t,
		answer{"a\x00b", "ab"},
		answer{"\x00a\x00\x00b\x00", "ab"},
		answer{"a \x00 b", "a b"},
		answer{"a\x00\nb", "a b"},
		answer{"<pre>a \x00 b</pre>", "a  b"},
		answer{"<p>\x00</p>a", "a"},
		answer{"a<p\x00>b", "ab"},
		answer{"a<\x00p>b", "a<p>b"},
		answer{"a</\x00p>b", "ab"},
		answer{"a<p \x00>b", "a\n\nb"},
		answer{"a<p \x00='>\x00'>b", "a\n\nb"},
		answer{"a<p x=\x00>b", "a\n\nb"},
		answer{"a<scr\x00ipt>b</scr\x00ipt>c", "abc"},
		answer{"a<script>\x00</script>c", "ac"},
		answer{"a<script>b</scr\x00ipt>c", "a"},
		answer{"a<script>b</script\x00>c", "a"},
		answer{"a<script\x00>b</script>c", "abc"},
		answer{"a<!--\x00-->b", "ab"},
		answer{"a<!-\x00->b", "ab"},
		answer{"a<!doctype\x00>b", "ab"},
		answer{"&\x00amp;", "&amp;"},
		answer{"&am\x00p;", "&amp;"},
		answer{"&amp\x00;", "&;"},
		answer{"&#6\x005;", "\x065;"},
		answer{"&#\x0065;", "&#65;"},
		// Where all is text, it is a sign that can't be read, and so it is, told by its number.
		answer{"<textarea>a\x00b</textarea>", "a" + bad + "b"},
		answer{"<xmp>a\x00b</xmp>", "a" + bad + "b"},
		answer{"<plaintext>\x00b\x00", bad + "b" + bad},
		answer{"a<title>\x00</title>b", "ab"},
		answer{"a&#0;b", "a" + bad + "b"},
		answer{"a&#0b", "a" + bad + "b"},
		answer{"a&#x0;b", "a" + bad + "b"},
		answer{"a&#X00000000000000000000;b", "a" + bad + "b"},
		answer{"<textarea>&#0;</textarea>", bad},
		answer{"<pre>&#0; </pre>", bad},
		answer{"<xmp>&#0;</xmp>", "&#0;"},
		answer{"a<p x='&#0;'>b", "a\n\nb"},
	)
}

// TestReferences reads them in text.
func TestReferences(t *testing.T) {
	are(t,
		answer{"&amp;", "&"},
		answer{"&amp", "&"},
		answer{"&AMP;&AMP", "&&"},
		answer{"&Amp;&aMP", "&Amp;&aMP"},
		answer{"&lt;p&gt;a&lt;/p&gt;", "<p>a</p>"},
		answer{"&lt;!--a--&gt;", "<!--a-->"},
		answer{"&lt;script>a&lt;/script>", "<script>a</script>"},
		answer{"&amp;lt;", "&lt;"},
		answer{"&amp;#38;amp;", "&#38;amp;"},
		answer{"&not", "\u00ac"},
		answer{"&notit", "\u00acit"},
		answer{"&notin;", "\u2209"},
		answer{"&notin", "\u00acin"},
		answer{"&NotEqualTilde;", "\u2242\u0338"},
		answer{"&NotEqualTilde", "&NotEqualTilde"},
		answer{"&nosuchname;", "&nosuchname;"},
		answer{"&copy=1&copy2&copyx&copy.", "©=1©2©x©."},
		answer{"&", "&"},
		answer{"&;", "&;"},
		answer{"& amp;", "& amp;"},
		answer{"&&amp;&", "&&&"},
		answer{"&#65;", "A"},
		answer{"&#65", "A"},
		answer{"&#65x", "Ax"},
		answer{"&#x41;&#X41;&#x41", "AAA"},
		answer{"&#x4az", "Jz"},
		answer{"&#000000000000000000000000000000000065;", "A"},
		answer{"&#;", "&#;"},
		answer{"&#x;", "&#x;"},
		answer{"&#a;", "&#a;"},
		answer{"&#xg;", "&#xg;"},
		answer{"&#-1;", "&#-1;"},
		answer{"&#128;&#150;&#x9f;&#129;", "\u20ac\u2013\u0178\u0081"},
		answer{"&#xD7FF;&#xD800;&#xDFFF;&#xE000;", "\ud7ff" + bad + bad + "\ue000"},
		answer{"&#1114111;&#1114112;", "\U0010ffff" + bad},
		answer{"&#" + strings.Repeat("9", 5000) + ";", bad},
		answer{"&#x" + strings.Repeat("F", 5000) + ";", bad},
		answer{"&#x" + strings.Repeat("0", 5000) + "41;", "A"},
		// Blanks that they tell are as any others; the sign 160 is none.
		answer{"&#32;&#9;a&#32;&#10;&Tab;&NewLine;&#12;b&#x20;", "a b"},
		answer{"&nbsp;a&nbsp;&#160;b&nbsp", "\u00a0a\u00a0\u00a0b\u00a0"},
		answer{"<pre>a&#32;&#32;b&#10;&#32;c&Tab;d</pre>", "a  b\n c\td"},
		// What parts one makes it none.
		answer{"&am<b>p;", "&amp;"},
		answer{"&am<!---->p;", "&amp;"},
		answer{"&am</>p;", "&amp;"},
		answer{"&amp<b>;", "&;"},
		answer{"&#<b>65;", "&#65;"},
		answer{"&no<b>tin;", "&notin;"},
		answer{"&no</>tin;", "&notin;"},
	)
}

// TestReferencesWithin reads them where all is text, or not; in a tag they end nothing.
func TestReferencesWithin(t *testing.T) {
	are(t,
		answer{"<textarea>&lt;&amp&#65;&notit;</textarea>", "<&A\u00acit;"},
		answer{"<textarea>&lt;/textarea>b", "</textarea>b"},
		answer{"<textarea>a&#60/textarea&#62;</textarea>b", "a</textarea>b"},
		answer{"<xmp>&lt;&amp&#65;</xmp>", "&lt;&amp&#65;"},
		answer{"<plaintext>&lt;&amp&#65;", "&lt;&amp&#65;"},
		answer{"<pre>&lt;&amp&#65;</pre>", "<&A"},
		answer{"<listing>&lt;b></listing>", "<b>"},
		answer{"a<title>&lt;/title>b</title>c", "ac"},
		answer{"a<style>&lt;/style>b</style>c", "ac"},
		answer{"a<script>&lt;/script>b</script>c", "ac"},
		answer{"a<!--&lt;--&gt;b-->c", "ac"},
		answer{"a<!&gt;b>c", "ac"},
		answer{"a<!doctype&gt;b>c", "ac"},
		answer{"a<p x='&gt;&apos;&#39;'>b", "a\n\nb"},
		answer{"a<p x=\"&quot;>\">b", "a\n\nb"},
		answer{"a<p x=&quot;>b", "a\n\nb"},
		answer{"a<p x=&gt;y>b", "a\n\nb"},
		answer{"a<p x='&copy=1&lt'>b", "a\n\nb"},
		answer{"a<p &gt;>b", "a\n\nb"},
		answer{"a<p&gt;>b", "ab"},
		answer{"a<&#112;>b", "a<p>b"},
		answer{"a<&lt;p>b", "a<<p>b"},
	)
}

// TestEachName holds each tag that isn't read otherwise against what chapter 17 says of its name.
func TestEachName(t *testing.T) {
	all := slices.Concat(twos, ones, others)
	for _, name := range all {
		if drive.State(name) != 0 {
			continue
		}
		for _, written := range []string{name, strings.ToUpper(name), strings.ToUpper(name[:1]) + name[1:]} {
			e := ends(name)
			are(t,
				answer{"a<" + written + ">b</" + written + ">c", "a" + e + "b" + e + "c"},
				answer{"a<" + written + " x='>'>b</" + written + " >c", "a" + e + "b" + e + "c"},
				answer{"a<" + written + "/>b", "a" + e + "b"},
				answer{"a</" + written + ">b", "a" + e + "b"},
				answer{"a<" + written + ">", "a"},
				answer{"a&lt;" + written + ">b", "a<" + written + ">b"},
			)
			between := " "
			switch {
			case e != "":
				between = e
			case slices.Contains(keepers, name):
				between = "   "
			}
			is(t, "a <"+written+"> </"+written+"> b", "a"+between+"b")
		}
	}
}

func TestTagsThatHide(t *testing.T) {
	for _, name := range hiders {
		upper := strings.ToUpper(name)
		are(t,
			answer{"a" + in(name, "b") + "c", "ac"},
			answer{"a<" + upper + ">b</" + name + ">c", "ac"},
			answer{"a<" + name + ">b</" + upper + ">c", "ac"},
			answer{"a<" + name + " x='>'>b</" + name + " x='>'>c", "ac"},
			answer{"a<" + name + "/>b</" + name + "/>c", "ac"},
			answer{"a<" + name + ">b", "a"},
			answer{"a<" + name + ">", "a"},
			answer{"a</" + name + ">b", "ab"},
			answer{"a " + in(name, " b ") + " c", "a c"},
			answer{"a" + in(name, " ") + "c", "ac"},
			answer{"<p>a" + in(name, "<p>b</p><br>") + "c</p>", "ac"},
			answer{"<pre> a" + in(name, " b ") + "  c", "a  c"},
			answer{"a" + in(name, "<pre>") + " \n c", "a c"},
			answer{"a" + in(name, "&lt;&#65;") + "c", "ac"},
			answer{"a<" + name + "x>b</" + name + "x>c", "abc"},
			answer{"a<x" + name + ">b</x" + name + ">c", "abc"},
		)
	}
}

func TestTagsThatKeep(t *testing.T) {
	for _, name := range []string{"pre", "listing", "textarea", "xmp", "PRE", "Textarea", "XMP", "LisTing"} {
		e := ends(strings.ToLower(name))
		last := e
		if e == "" {
			last = " "
		}
		are(t,
			answer{"a<" + name + ">b  c\t\n d </" + name + ">e", "a" + e + "b  c\n d" + last + "e"},
			answer{"a  b<" + name + ">c  d</" + name + ">e  f", "a b" + e + "c  d" + e + "e f"},
			answer{"<" + name + ">\n\n  a</" + name + ">", "a"},
			answer{"<" + name + ">a  \n\n  ", "a"},
			answer{"a</" + name + ">b  c", "a" + e + "b c"},
		)
	}
	are(t,
		answer{"a<plaintext> b  c\n d ", "a\n\n b  c\n d"},
		answer{"<pre>a  <b> b</b>  c</pre>", "a   b  c"},
		answer{"<pre><pre>a  b</pre>c  d</pre>e  f", "a  b\n\nc  d\n\ne f"},
		answer{"<pre><listing>a  b</pre>c  d</listing>e  f", "a  b\n\nc  d\n\ne f"},
		answer{"<pre><textarea> a  b </textarea> c  d</pre>e  f", "a  b  c  d\n\ne f"},
		answer{"<pre>a<p>  b</pre>", "a\n\n  b"},
		answer{"<pre>a<br>  b</pre>", "a\n  b"},
		answer{"</pre><pre>a  b</pre></pre>c  d", "a  b\n\nc d"},
	)
}

func TestBr(t *testing.T) {
	are(t,
		answer{"a<br>b", "a\nb"},
		answer{"a<BR>b<Br/>c<bR />d", "a\nb\nc\nd"},
		answer{"a</br>b", "a\nb"},
		answer{"a<br><br>b", "a\n\nb"},
		answer{"a<br></br>b", "a\n\nb"},
		answer{"a <br> b", "a\nb"},
		answer{"<br>a<br>", "a"},
		answer{"<p>a<br>b</p><br>c", "a\nb\n\n\nc"},
		answer{"a<br><p>b", "a\n\nb"},
		answer{"a<p><br>b", "a\n\n\nb"},
		answer{"a<br x>b<br x='>'/>c", "a\nb\nc"},
		answer{"a<brx>b<b r>c", "abc"},
		answer{"a" + strings.Repeat("<br>", 200) + "b", "a" + strings.Repeat("\n", 200) + "b"},
	)
}

func TestLists(t *testing.T) {
	are(t,
		answer{"<ul><li>a<li>b</ul>c", "a\nb\n\nc"},
		answer{"<ul>\n <li>a</li>\n <li>b</li>\n</ul>\nc", "a\nb\n\nc"},
		answer{"<table><tr><td>a</td> <td>b</td></tr><tr><td>c</td></tr></table>d", "a b\nc\n\nd"},
		answer{"<h1>a</h1><div>b</div><div><div>c</div></div><p>d</p>e", "a\n\nb\nc\n\nd\n\ne"},
		answer{"<dl><dt>a<dd>b</dl>c", "a\nb\nc"},
		answer{"<blockquote>a<p>b</p></blockquote><hr>c", "a\n\nb\n\nc"},
		answer{"a<td>b<th>c", "abc"},
	)
}

// within is what has tags, references, comments and programs in it.
const within = "a <b>c</b> &amp;<!--d--><p>e</p>&lt;"

// TestTextsWithin reads each name of chapter 16 with its end tag, and without one.
func TestTextsWithin(t *testing.T) {
	const read = "a <b>c</b> &<!--d--><p>e</p><"
	for _, open := range []string{"", " x='>'", "/", "\n"} {
		are(t,
			answer{"x<title" + open + ">" + within + "</title>y", "xy"},
			answer{"x<title" + open + ">" + within, "x"},
			answer{"x<textarea" + open + ">" + within + "</textarea>y", "x" + read + "y"},
			answer{"x<textarea" + open + ">" + within, "x" + read},
			answer{"x<textarea" + open + "></textarea>y", "xy"},
			answer{"x<script" + open + ">" + within + "</script>y", "xy"},
			answer{"x<script" + open + ">" + within, "x"},
			answer{"x<xmp" + open + ">" + within + "</xmp>y", "x\n\n" + within + "\n\ny"},
			answer{"x<xmp" + open + ">" + within, "x\n\n" + within},
			answer{"x<plaintext" + open + ">" + within + "</plaintext>y", "x\n\n" + within + "</plaintext>y"},
			answer{"x<PlainText" + open + ">" + within, "x\n\n" + within},
		)
	}
	for _, name := range rawtexts {
		if name == "xmp" {
			continue
		}
		are(t,
			answer{"x<" + name + ">" + within + "</" + name + ">y", "xy"},
			answer{"x<" + name + ">" + within + "</" + name + "\n>y", "xy"},
			answer{"x<" + name + ">" + within + "</" + name + "/>y", "xy"},
			answer{"x<" + name + ">" + within, "x"},
		)
	}
	// What isn't the end of its own tag ends none; a tag that ends it, but has no end, ends it.
	for _, name := range append(rawtexts, "title", "textarea", "script") {
		said := func(s string) string {
			if slices.Contains(hiders, name) {
				return "x"
			}
			return "x" + ends(name) + s
		}
		for _, no := range []string{"</" + name, "</" + name + "x>", "</" + name[1:] + ">", "<" + name + ">", "</ " + name + ">", "< /" + name + ">", "</p>", "<!--", "<title>", "</" + name + "\v>", "</-" + name + ">"} {
			if no == "<title>" && name == "title" {
				continue
			}
			is(t, "x<"+name+">a"+no, said("a"+no))
			if no != "<!--" && no != "</"+name {
				is(t, "x<"+name+">a"+no+"</"+name+">y", said("a"+no)+ends(name)+"y")
			}
		}
		is(t, "x<"+name+">a</"+name+" y", said("a"))
		is(t, "x<"+name+">a</"+name+" y='>", said("a"))
		is(t, "x<"+name+">a</"+name+"/", said("a"))
		is(t, "x</"+name+"><i>y</i>", "x"+ends(name)+"y")
	}
	is(t, "x</plaintext><i>y</i>", "x\n\ny")
	// Tags that aren't among them are read as all else.
	for _, name := range []string{"pre", "listing", "template", "head", "option", "noscripts", "titles", "svg", "math", "textareas"} {
		got := check(t, "<"+name+">a<i>b</i>&amp;</"+name+">c")
		if strings.Contains(got, "<") || strings.Contains(got, "amp") {
			t.Errorf("%s: %s", name, short(got))
		}
	}
}

func TestPrograms(t *testing.T) {
	are(t,
		answer{"a<script>b</script>c", "ac"},
		answer{"a<script><!--b</script>c", "ac"},
		answer{"a<script><!--b--></script>c", "ac"},
		answer{"a<script><!--<script>b</script>c</script>d", "ad"},
		answer{"a<script><!--<script>b</script>c--></script>d", "ad"},
		answer{"a<script><!--<script>b</script>c", "a"},
		answer{"a<script><!--<script>b--></script>c", "ac"},
		answer{"a<script><!--<script></script></script></script>d", "ad"},
		answer{"a<script><!--<SCRIPT ></Script/></sCRIPT\n>d", "ad"},
		answer{"a<script><!--<scriptx></script>d", "ad"},
		answer{"a<script><!--<script></scriptx></script></script>d", "ad"},
		answer{"a<script><!--><script></script>d", "ad"},
		answer{"a<script><!---><script></script>d", "ad"},
		answer{"a<script><!-- - - ><script></script>d", "a"},
		answer{"a<script><!-<script></script>d", "ad"},
		answer{"a<script><script></script>d", "ad"},
		answer{"a<script>'</script>'</script>d", "a'd"},
		answer{"a<style><!--<style></style>b</style>c", "abc"},
		answer{"a<!--<script>-->b</script>c", "abc"},
		answer{"a<script><!--<script></script><!--<script></script></script>d", "ad"},
	)
}

// TestMarkupThatSaysNothing has comments, doctypes and what is no tag, whole and without an end.
func TestMarkupThatSaysNothing(t *testing.T) {
	for _, m := range []string{"<!---->", "<!-->", "<!--->", "<!--b-->", "<!--b--!>", "<!--b>c<p>-->", "<!--<!--b-->", "<!--&gt;-->", "<!--b--->", "<!--b->->-->", "<!>", "<!b>", "<!-b>", "<!->", "<!'>", "<![CDATA[b]]>", "<?>", "<?b>", "<?xml b='c'?>", "</ b>", "</1>", "</\">", "</>", "</!--b>", "<!doctype>", "<!doctype html>", "<!DOCTYPE html PUBLIC \"b\" 'c'>", "<!DocTypehtml>", "<!doctypes>", "<!doctyp>", "<b>", "</b>", "<b/>", "<b x y=z>", "<b'>", "<b\">", "<b =>"} {
		are(t,
			answer{"a" + m + "c", "ac"},
			answer{m + "c", "c"},
			answer{"a" + m, "a"},
			answer{"a " + m + " c", "a c"},
			answer{"a" + m + " " + m + "c", "a c"},
			answer{"<pre>a " + m + " c</pre>", "a  c"},
			answer{"a" + m + m + m + "<p>c", "a\n\nc"},
		)
	}
	are(t,
		answer{"a<!--b--c-->d", "ad"},
		answer{"a<!--b-- >c-->d", "ad"},
		answer{"<!--->a-->", "a-->"},
		answer{"a<!b>c>d", "ac>d"},
		answer{"a<!doctype '>'>b", "a'>b"},
		answer{"a<![CDATA[<b>]]>c", "a]]>c"},
		answer{"a<?b '>'?>c", "a'?>c"},
		answer{"a</b '>'>c", "a'>c"},
		answer{"a</b x='>'>c", "ac"},
		answer{"a</ b '>'>c", "a'>c"},
	)
	// Without an end all behind it is part of it.
	for _, m := range []string{"<!--", "<!--b", "<!--b-", "<!--b--", "<!--b--!", "<!--b->", "<!--b--!c>", "<!", "<!-", "<!b", "<?", "<?b", "</ ", "</1", "<!doctype", "<!doctype html", "<!doctype html PUBLIC \"b", "<b", "<b ", "<b c", "<b c=", "<b c=d", "<b c='", "<b c='>", "<b c=\"d>e</b>", "<b/", "</b", "</b ", "</b c='>", "<b/ ", "<b c/"} {
		are(t,
			answer{"a" + m, "a"},
			answer{"a " + m, "a"},
			answer{"<p>a</p>c" + m, "a\n\nc"},
			answer{m, ""},
			answer{"<pre>a \n" + m, "a"},
		)
	}
	is(t, "a<!--b<p>c</p>", "a")
	is(t, "a<b c='d<p>e</p>", "a")
	is(t, "a<!--b<p>c</p>--!>d", "ad")
}

// TestNoMarkup has brackets that mark nothing up.
func TestNoMarkup(t *testing.T) {
	for _, s := range []string{"<", "</", "a<", "a</", "< b>", "<1>", "<1", "a < b > c", "<<>>", "<>", "<=", "<-", "<->", ">", "a>b", "'<'", "<\"b\">", "<&", "<é>", "<_b>", "<@", "<[", "<`", "<{", "--> a", "]]>", "/>"} {
		is(t, s, s)
		is(t, "x <p>"+s, "x\n\n"+s)
		// With something behind it, a stroke begins what is no tag.
		if !strings.HasSuffix(s, "</") {
			is(t, "<b>"+s+" <i></i>", s)
			is(t, "x <p>"+s+"</p>", "x\n\n"+s)
		}
	}
	are(t,
		answer{"<<b>", "<"},
		answer{"<<b>c", "<c"},
		answer{"</<b>c", "c"},
		answer{"<1<b>c", "<1c"},
		answer{"<\nb>", "< b>"},
		answer{"a<</b>c", "a<c"},
	)
}

func TestHeads(t *testing.T) {
	are(t,
		answer{"<head>a<body>b", "b"},
		answer{"<html><head><title>a</title><style>b</style>c<body>d", "d"},
		answer{"<head>a</head>b", "b"},
		answer{"<head>a", ""},
		answer{"<head><p>a</p>b", ""},
		answer{"<head><head>a</head>b<body>c", "c"},
		answer{"<head><title>a<body>b", ""},
		answer{"<head><template>a<body>b", ""},
		answer{"<head><template>a<body></template>b", "b"},
		answer{"<head><style>a</style>b</head>c<body>d", "c\nd"},
		answer{"<HEAD>a<BODY x='>'>b</BODY>", "b"},
		answer{"<head>a</body>b", ""},
		answer{"<head>a<bodyx>b", ""},
		answer{"<head>a&lt;body>b", ""},
		answer{"<head><!--<body>-->b", ""},
		answer{"<head x='<body>'>b", ""},
		answer{"<head>a<body>b<head>c<body>d", "b\nd"},
		answer{"a<head>b</html>c<body>d", "a\nd"},
		answer{"<!doctype html>\r\n<html>\r\n<head>\r\n<title>a</title>\r\n</head>\r\n<body>\r\n<p>b\r\nc</p>\r\n</body>\r\n</html>\r\n", "b c"},
	)
}

// rawly tells of a name that hides whether all within it is text.
func rawly(name string) bool { return name != "head" && name != "template" }

func TestHiddenWithinHidden(t *testing.T) {
	are(t,
		answer{"<template>a<template>b</template>c</template>d", "d"},
		answer{"<template>a<script>b</script>c</template>d", "d"},
		answer{"<template>a<script>b</template>c</script>d</template>e", "e"},
		answer{"<template><style></template></style>a</template>b", "b"},
		answer{"<template><title></template></title>a</template>b", "b"},
		answer{"<template><textarea></template></textarea>a</template>b", "b"},
		answer{"<template><!--</template>-->a</template>b", "b"},
		answer{"<template><b x='</template>'>a</template>b", "b"},
		answer{"<template><xmp></template></xmp>a</template>b", "b"},
		answer{"<template><plaintext></template>a", ""},
		answer{"<template><pre></template>a  b", "a b"},
		answer{"a<template><p></template>b", "ab"},
		answer{"a<template></p></template>b", "ab"},
		answer{"<template><template>a</template>b", ""},
		answer{"<template><template>a</template></template>b", "b"},
		answer{"<template><head>a</template>b", "b"},
		answer{"<head><template>a</head>b", "b"},
		answer{"<head><template>a</head></template>b", "b"},
		answer{"<head><script>a</head></script>b</head>c", "c"},
		answer{"<noscript><template></noscript>a", "a"},
		answer{"<iframe><head></iframe>a", "a"},
		answer{"<title><script></title>a", "a"},
		answer{"<script><title></script>a", "a"},
	)
	for _, h := range hiders {
		for _, g := range hiders {
			is(t, "a<template>b"+in(h, "c")+in(g, "d")+"e</template>f", "af")
			// Where all is text, nothing is begun; else what is begun, and isn't ended, is ended with what it stands in, unless it is like it, or takes all for its text.
			want := "ad"
			if !rawly(h) && (rawly(g) || g == h) {
				want = "a"
			}
			is(t, "a"+in(h, "b<"+g+">c")+"d", want)
		}
	}
	is(t, strings.Repeat("<template>a", 500)+strings.Repeat("</template>", 500)+"b", "b")
	is(t, strings.Repeat("<template>a", 500)+strings.Repeat("</template>", 499)+"b", "")
}

// Marks of what isn't a sign to be read: blanks that aren't kept, Breaks of 1 and 2, a Line, and blanks that are kept. The drawn pages have none of them as signs.
const (
	blank = "\ue000"
	one   = "\ue001"
	two   = "\ue002"
	line  = "\ue003"
	wide  = "\ue004"
	tab   = "\ue005"
)

// marks is some of them, side by side.
var marks = regexp.MustCompile("[\ue000-\ue005]+")

// settle is what marks that stand side by side become: all lines' ends among them, and of the blanks those behind the last one alone.
func settle(s string) string {
	ended, behind := 0, ""
	for _, r := range s {
		switch string(r) {
		case one:
			ended, behind = max(ended, 1), ""
		case two:
			ended, behind = max(ended, 2), ""
		case line:
			ended, behind = ended+1, ""
		case blank:
			if ended == 0 && behind == "" {
				behind = " "
			}
		case wide:
			behind += " "
		case tab:
			behind += "\t"
		}
	}
	return strings.Repeat("\n", ended) + behind
}

// told is what signs and marks become: those at the beginning and at the end become nothing.
func told(s string) string {
	return marks.ReplaceAllStringFunc(strings.Trim(s, blank+one+two+line+wide+tab), settle)
}

// page is a text that is drawn: how it is written, and what it says, in signs and marks.
type page struct {
	*rand.Rand
	written, says strings.Builder
}

// pick is one of those texts.
func (p *page) pick(of ...string) string { return of[p.IntN(len(of))] }

// put writes something, and says something of it.
func (p *page) put(written, says string) {
	p.written.WriteString(written)
	p.says.WriteString(says)
}

// tag writes a tag of that name, in whatever letters, and with whatever attributes.
func (p *page) tag(ahead, name string) {
	if p.IntN(4) == 0 {
		name = strings.ToUpper(name[:1]) + name[1:]
	}
	p.put(ahead+name+p.pick("", "", "", " ", "/", "\r", "\r\nx", " x='>'", "\tx=\">\xff\"/", " x=&gt; y", " \x00=1\r")+">", "")
}

// element writes an element, with what inner writes in it, and says its edge ahead of it and behind it.
func (p *page) element(name, edge string, inner func()) {
	p.put("", edge)
	p.tag("<", name)
	inner()
	p.tag("</", name)
	p.put("", edge)
}

// hidden writes what inner writes, of which nothing is said.
func (p *page) hidden(inner func()) {
	said := p.says.String()
	inner()
	p.says.Reset()
	p.says.WriteString(said)
}

// run writes a piece of text that isn't parted; what comes behind it never goes on with it.
func (p *page) run(keep bool) {
	list := []answer{{"a", "a"}, {"xy", "xy"}, {"é", "é"}, {"\xff.", bad + "."}, {"\xe2\x82.", bad + "."}, {"&lt;", "<"}, {"&amp;", "&"}, {"&#65;", "A"}, {"&#x80;", "\u20ac"}, {"&#xD800;", bad}, {"&notit;", "\u00acit;"}, {"&z;", "&z;"}, {"< ", "<" + blank}, {"&#0;", bad}, {"&nbsp;", "\u00a0"}, {">", ">"}, {"-->", "-->"}, {"&#32;", blank}}
	soft := []answer{{" ", blank}, {"\r\n", blank}, {"\r", blank}, {"\n", blank}, {"\t", blank}, {"\f ", blank}, {"&Tab;", blank}, {"&#13;", blank}}
	hard := []answer{{" ", wide}, {"\r\n", line}, {"\rz", line + "z"}, {"\n", line}, {"\t", tab}, {"  ", wide + wide}, {"&Tab;", tab}, {"&#13;", line}, {"&NewLine;", line}}
	if keep {
		list = append(list, hard...)
	} else {
		list = append(list, soft...)
	}
	for range 1 + p.IntN(4) {
		c := list[p.IntN(len(list))]
		if keep {
			c.want = strings.ReplaceAll(c.want, blank, wide)
		}
		p.put(c.in, c.want)
	}
}

// raw writes an element in which all is text; what it says is told only if show is set.
func (p *page) raw(name, edge string, refs, show bool) {
	list := []answer{{"a", "a"}, {" ", wide}, {"\r\n", line}, {"<b>", "<b>"}, {"</b>", "</b>"}, {"<!--", "<!--"}, {"-->", "-->"}, {"\x00", bad}, {"\xff.", bad + "."}, {"<p>", "<p>"}, {"</>", "</>"}, {"</" + name + "x>", "</" + name + "x>"}, {"<" + name + "x>", "<" + name + "x>"}}
	if refs {
		list = append(list, answer{"&lt;", "<"}, answer{"&#65;", "A"}, answer{"&copy;", "©"})
	} else {
		list = append(list, answer{"&lt;", "&lt;"}, answer{"&#65;", "&#65;"})
	}
	inner := func() {
		for range p.IntN(6) {
			c := list[p.IntN(len(list))]
			p.put(c.in, c.want)
		}
	}
	if show {
		p.element(name, edge, inner)
		return
	}
	p.hidden(func() { p.element(name, edge, inner) })
}

// nothing writes markup that says nothing.
func (p *page) nothing() {
	p.put(p.pick("<!---->", "<!-->", "<!--a>b-->", "<!--<p>--!>", "<!x>", "<?x>", "</ x>", "</>", "<!doctype html>", "<![CDATA[<b>", "<!--<script>-->", "<!--\xe2-->", "</script>", "</title>", "</style>"), "")
}

// body writes some pieces, so many tags deep at most.
func (p *page) body(deep int, keep bool) {
	for range p.IntN(7) {
		kind := p.IntN(16)
		if deep == 0 && kind >= 8 {
			kind = p.IntN(8)
		}
		p.piece(kind, deep-1, keep)
	}
}

// piece writes one.
func (p *page) piece(kind, deep int, keep bool) {
	body := func() { p.body(deep, keep) }
	switch kind {
	default:
		p.run(keep)
	case 4:
		p.nothing()
	case 5:
		p.put("", line)
		p.tag(p.pick("<", "</"), "br")
	case 6:
		p.put("", one)
		p.tag("<", p.pick("hr", "li", "dd", "tr"))
	case 7:
		p.put("", two)
		p.tag("<", p.pick("p", "h1", "table"))
	case 8, 9:
		p.element(p.pick("b", "i", "span", "td", "svg", "a", "x-y"), "", body)
	case 10:
		p.element(p.pick("div", "li", "tr", "center", "section"), one, body)
	case 11:
		p.element(p.pick("p", "ul", "h6", "blockquote"), two, body)
	case 12:
		p.element(p.pick("pre", "listing"), two, func() { p.body(deep, true) })
	case 13:
		p.hidden(func() { p.element("template", "", body) })
	case 14:
		p.raw("textarea", "", true, true)
	case 15:
		p.last(deep)
	}
}

// last writes what else may stand in a page.
func (p *page) last(deep int) {
	switch p.IntN(4) {
	case 0:
		p.raw("xmp", two, false, true)
	case 1:
		p.raw(p.pick("style", "iframe", "noembed", "noframes", "noscript"), "", false, false)
	case 2:
		p.raw("title", "", true, false)
	case 3:
		p.hidden(func() {
			p.element("script", "", func() {
				p.put(p.pick("", "a<b", "<!--<script>a</script>", "<!--<script></script>-->", "<!--", "&lt;/script>", "</scriptx>"), "")
			})
		})
	}
}

// end writes how a page may end.
func (p *page) end() {
	said := "z<b>" + wide + "&lt;"
	switch p.IntN(8) {
	case 0:
		p.put("<plaintext>z<b> &lt;", two+said)
	case 1:
		p.put("<textarea>z<b> &lt;", "z<b>"+wide+"<")
	case 2:
		p.put("<xmp>z<b> &lt;", two+said)
	case 3:
		p.put(p.pick("<script>", "<title>", "<style>", "<template>", "<head>", "<!--", "<p x='", "<!doctype ", "</ ")+"z<b", "")
	}
}

// TestDrawnPages draws pages of which it knows what they say.
func TestDrawnPages(t *testing.T) {
	p := &page{Rand: rand.New(rand.NewPCG(20, 1))}
	for k := range 30000 {
		p.written.Reset()
		p.says.Reset()
		if k%5 == 0 {
			p.put(mark, "")
		}
		if k%3 == 0 {
			p.put("<!DOCTYPE html>\r\n<html><head>", one)
			p.hidden(func() { p.body(2, false) })
			p.put("<body>", one)
		}
		p.body(4, false)
		p.end()
		is(t, p.written.String(), told(p.says.String()))
		if t.Failed() {
			t.Fatalf("page %d", k)
		}
	}
}

// eachText hands all texts of n of those to see.
func eachText(of []string, n int, see func(string)) {
	if n == 0 {
		see("")
		return
	}
	eachText(of, n-1, func(s string) {
		for _, last := range of {
			see(s + last)
		}
	})
}

// TestAllShortInputs holds all that can be made of a few bytes, and of a few larger pieces.
func TestAllShortInputs(t *testing.T) {
	for _, c := range []struct {
		of   []string
		most int
	}{
		{[]string{"a", " ", "<", ">", "/", "\r", "\n", "!", "-", "&", "\xe2", "\x00"}, 4},
		{[]string{"\xef", "\xbb", "\xbf", "a", "<", "\xff"}, 6},
		{[]string{"\r", "\n", "a", "<pre>", "&#13;", "<p", ">", "\x00"}, 5},
		{[]string{"<head>", "<body>", "</head>", "<template>", "</template>", "a", "<p>"}, 5},
		{[]string{"<script>", "</script>", "<!--", "-->", "a", "<title>", "</title>"}, 5},
		{[]string{"<plaintext>", "<pre>", "</pre>", "<textarea>", "</textarea>", "a ", " b", "<br>"}, 5},
		{[]string{"&", "#", "x", "6", "5", ";", "amp", "<b>", "not"}, 5},
	} {
		for n := range c.most + 1 {
			eachText(c.of, n, func(s string) { check(t, s) })
		}
	}
	// Each one and two bytes, alone and with text about them.
	for a := range 256 {
		check(t, string([]byte{byte(a)}))
		for b := range 256 {
			check(t, string([]byte{byte(a), byte(b)}))
			check(t, string([]byte{'<', byte(a), byte(b), '>', 'x'}))
			check(t, string([]byte{'x', byte(a), byte(b), 'y'}))
		}
	}
}

// TestDrawnBytes draws bytes of all kinds, and pieces of markup between them.
func TestDrawnBytes(t *testing.T) {
	r := rand.New(rand.NewPCG(20, 2))
	some := []string{"<", ">", "/", "</", "<!--", "-->", "--!>", "<!", "<?", "&", ";", "&#", "&#x", "&lt", "&amp;", "&#0;", "&#13;", "'", "\"", "=", " ", "\r", "\n", "\r\n", "\x00", "a", "b", "1", mark, "é", "😀", "<!doctype "}
	for _, name := range slices.Concat(hiders, keepers, []string{"body", "p", "br", "li", "b"}) {
		some = append(some, "<"+name+">", "</"+name+">", "<"+name, name)
	}
	for range 60000 {
		var b []byte
		for range r.IntN(24) {
			switch r.IntN(4) {
			case 0:
				b = append(b, byte(r.IntN(256)))
			case 1:
				b = append(b, byte(128+r.IntN(128)))
			default:
				b = append(b, some[r.IntN(len(some))]...)
			}
		}
		check(t, string(b))
	}
}

// TestBounds has inputs that say as much as any of their length do.
func TestBounds(t *testing.T) {
	for _, c := range []struct{ of, says string }{
		{"\xff", bad}, {"\x80", bad}, {"\xc0", bad}, {"\xe2", bad}, {"\xf0", bad}, {"&#0", bad}, {"\xc3\xa9", "é"}, {"\U0010ffff", "\U0010ffff"}, {"&nGt;", "\u226b\u20d2"}, {"&nLt;", "\u226a\u20d2"}, {"&GT", ">"},
	} {
		for _, n := range []int{1, 2, 3, 10, 1000} {
			is(t, strings.Repeat(c.of, n), strings.Repeat(c.says, n))
			is(t, "<textarea>"+strings.Repeat(c.of, n), strings.Repeat(c.says, n))
		}
	}
	for _, n := range []int{1, 2, 3, 10, 1000} {
		for _, s := range []string{"\x00", "\xff", "&#0"} {
			is(t, "<textarea>"+strings.Repeat(s, n), strings.Repeat(bad, n))
		}
		is(t, "<plaintext>"+strings.Repeat("\x00", n), strings.Repeat(bad, n))
		is(t, strings.Repeat("a<p>", n), strings.Repeat("a\n\n", n-1)+"a")
		is(t, strings.Repeat("a<br>", n), strings.Repeat("a\n", n-1)+"a")
		is(t, strings.Repeat("<br>", n)+"a"+strings.Repeat("<br>", n)+"b", "a"+strings.Repeat("\n", n)+"b")
		is(t, strings.Repeat("\x00", n), "")
	}
}

// TestParts holds what stands on both sides of what parts them against what each side says.
func TestParts(t *testing.T) {
	r := rand.New(rand.NewPCG(20, 3))
	p, q := &page{Rand: r}, &page{Rand: r}
	for range 5000 {
		for _, half := range []*page{p, q} {
			half.written.Reset()
			half.says.Reset()
			half.body(3, false)
		}
		a, b := check(t, p.written.String()), check(t, q.written.String())
		between := "\n\n"
		if a == "" || b == "" {
			between = ""
		}
		// What waits at the edges may end more lines than two, and be blanks that are kept.
		got := check(t, p.written.String()+"<p>"+q.written.String())
		if !strings.HasPrefix(got, a) || !strings.HasSuffix(got, b) || len(got) < len(a+between+b) || strings.Trim(got[len(a):len(got)-len(b)], blanks) != "" {
			t.Fatalf("%s and %s: %s, want %s and %s", short(p.written.String()), short(q.written.String()), short(got), short(a), short(b))
		}
		// Signs that can't be read are what they are written as; ends of lines are what they become.
		is(t, mark+p.written.String(), a)
		is(t, strings.ReplaceAll(strings.ReplaceAll(p.written.String(), "\r\n", "\n"), "\r", "\n"), a)
		is(t, strings.ReplaceAll(strings.ReplaceAll(p.written.String(), "\r\n", "\r"), "\n", "\r"), a)
		is(t, strings.NewReplacer("\xff", bad, "\xe2\x82.", bad+".", "\xe2-", bad+"-").Replace(p.written.String()), a)
	}
}

// TestLong has long inputs, and inputs of many pieces; each is gone through, whatever it begins and doesn't end.
func TestLong(t *testing.T) {
	const n = 30000
	text := strings.Repeat("abc ", n)
	is(t, text, strings.TrimSpace(text))
	is(t, "<p>"+text+"</p>x", strings.TrimSpace(text)+"\n\nx")
	is(t, "<script>"+text+"</script>x", "x")
	is(t, "<textarea>"+text+"</textarea>x", text+"x")
	is(t, "<!--"+text+"-->x", "x")
	is(t, "<b x='"+text+"'>x", "x")
	is(t, "a"+strings.Repeat(" \r\n", n)+"b", "a b")
	is(t, "<pre>a"+strings.Repeat("\r\n", n)+"b", "a"+strings.Repeat("\n", n)+"b")
	for _, c := range []struct{ of, says string }{
		{"<b>a</b>", "a"}, {"<p>a</p>", "a\n\n"}, {"a<br>", "a\n"}, {"&amp;", "&"}, {"&#65;", "A"}, {"a\xff", "a" + bad}, {"<!---->a", "a"}, {"<script>x</script>a", "a"}, {"<title>x</title>a", "a"}, {"<textarea>a b</textarea>", "a b"}, {"<template>x</template>a", "a"}, {"<li>a", "a\n"}, {"<", "<"}, {"</>a", "a"}, {"a</b>", "a"}, {"&", "&"}, {"<pre>a  b</pre>", "a  b\n\n"},
	} {
		is(t, strings.Repeat(c.of, n), strings.TrimRight(strings.Repeat(c.says, n), "\n"))
	}
	for _, s := range []string{"<template>", "<head>", "<body>", "<pre>", "</pre>", "<b ", "</b ", "<!--", "<!-- -", "<!", "<?", "</ ", "<!doctype ", "<title>", "<script>", "<script><!--", "<script><!--<script>", "<textarea></textarea ", "<b x='", "<b x=\"'", "\x00", mark, "<p>", "<plaintext>", "<head><body>", "<template><head>", "</template>"} {
		check(t, strings.Repeat(s, n/10))
	}
	is(t, strings.Repeat("<template>", n)+strings.Repeat("</template>", n)+"a", "a")
	is(t, strings.Repeat("<b>", n)+"a"+strings.Repeat("</b>", n), "a")
	is(t, strings.Repeat("<head>", n)+"<body>a", "a")
}

// TestNothingIsChanged hands in bytes, and looks at them, and at those about them, behind the call.
func TestNothingIsChanged(t *testing.T) {
	for _, s := range []string{"", "a", mark + "a", "a\r\nb\rc", "a\x00\xff", "<P X=1>a &amp; b</P>", "<SCRIPT>x</SCRIPT>", "\xe2\x82", "<pre>a\r", "plain"} {
		all := []byte("ahead" + s + "behind, and more")
		copied := slices.Clone(all)
		b := all[5 : 5+len(s)]
		first := Extract(b)
		said := strings.Clone(first)
		if !slices.Equal(all, copied) {
			t.Errorf("%s: changed to %s", short(string(copied)), short(string(all)))
		}
		if again := Extract(b); again != said {
			t.Errorf("%s: %s, and again %s", short(s), short(said), short(again))
		}
		// Who changes what was handed in changes no answer.
		for k := range all {
			all[k] = '!'
		}
		if first != said {
			t.Errorf("%s: %s became %s", short(s), short(said), short(first))
		}
	}
}

// TestCallsBesideEachOther has several calls at a time, of the same bytes and of others.
func TestCallsBesideEachOther(t *testing.T) {
	inputs := []string{"<p>a &amp; b</p><script>x</script>c", "<pre>a\r\n b", "<head>a<body>b", "a\xffb", "<textarea>a  b</textarea>", "<ul><li>a<li>b</ul>c"}
	wants := []string{"a & b\n\nc", "a\n b", "b", "a" + bad + "b", "a  b", "a\nb\n\nc"}
	var shared [][]byte
	for _, s := range inputs {
		shared = append(shared, []byte(s))
	}
	var all sync.WaitGroup
	for first := range 8 {
		all.Go(func() {
			for k := range 300 {
				i := (first + k) % len(inputs)
				if got := Extract(shared[i]); got != wants[i] {
					t.Errorf("%s: %s", short(inputs[i]), short(got))
				}
			}
		})
	}
	all.Wait()
}

func FuzzExtract(f *testing.F) {
	for _, s := range []string{"", "<p>a &amp; b</p><script>x</script>c", mark + "a\r\nb", "<pre>a\r b</pre>", "<head>a<body>b", "\xe2\x82A", "a\x00b&#0;", "<textarea>&lt;</textarea>", "<script><!--<script></script></script>", "<plaintext>a", "<!--a", "<b c='"} {
		f.Add([]byte(s))
	}
	f.Fuzz(func(t *testing.T, b []byte) {
		copied := slices.Clone(b)
		check(t, string(b))
		if !slices.Equal(b, copied) {
			t.Errorf("%s changed", short(string(copied)))
		}
	})
}
