package escape

import (
	"math"
	"math/rand/v2"
	"strconv"
	"strings"
	"sync"
	"testing"
	"unsafe"

	"flail/api"
	"flail/drive"
	"flail/lines"
	"flail/ref"
)

const (
	bad       = "\xef\xbf\xbd"
	markBytes = "\xef\xbb\xbf"
)

// row is a row of the chapter's table, a line for each of what stands there.
type row struct{ what, written string }

var table = []row{
	{"&", "&amp;"},
	{"<", "&lt;"},
	{">", "&gt;"},
	{"\"", "&quot;"},
	{"'", "&#39;"},
	{"\r", "&#13;"},
	{"\x00", bad},
	{markBytes, "&#65279;"},
}

var dests = []int{api.ToText, api.ToAttr, api.ToRcdata}

// short is s, or so much of it as a failing test may tell.
func short(s string) string {
	if len(s) > 200 {
		return strconv.Quote(s[:200]) + ".."
	}
	return strconv.Quote(s)
}

// wanted is what the chapter asks for; a sign 65279 is known by its last byte here, and what was written of it taken back.
func wanted(dest int, s string) string {
	if dest != api.ToText && dest != api.ToAttr && dest != api.ToRcdata {
		return ""
	}
	var out []byte
	if dest == api.ToRcdata && s != "" && s[0] == 10 {
		out = append(out, 10)
	}
	for k := range len(s) {
		switch s[k] {
		case 38:
			out = append(out, "&amp;"...)
		case 60:
			out = append(out, "&lt;"...)
		case 62:
			out = append(out, "&gt;"...)
		case 34:
			out = append(out, "&quot;"...)
		case 39:
			out = append(out, "&#39;"...)
		case 13:
			out = append(out, "&#13;"...)
		case 0:
			out = append(out, 239, 191, 189)
		case 191:
			out = append(out, 191)
			if k >= 2 && s[k-2] == 239 && s[k-1] == 187 {
				out = append(out[:len(out)-3], "&#65279;"...)
			}
		default:
			out = append(out, s[k])
		}
	}
	return string(out)
}

// shares tells whether two texts have memory in common.
func shares(a, b string) bool {
	if a == "" || b == "" {
		return false
	}
	x, y := uintptr(unsafe.Pointer(unsafe.StringData(a))), uintptr(unsafe.Pointer(unsafe.StringData(b)))
	return x < y+uintptr(len(b)) && y < x+uintptr(len(a))
}

// checkWritten holds what is written of s against P21.2, and against what is read of it.
func checkWritten(t *testing.T, dest int, s, got string) {
	t.Helper()
	if strings.ContainsAny(got, "<>\"'\x00\r") || strings.Contains(got, markBytes) {
		t.Errorf("%d, %s: %s has what it mustn't", dest, short(s), short(got))
	}
	if len(got) > 6*len(s) {
		t.Errorf("%d, %s: %d bytes of %d", dest, short(s), len(got), len(s))
	}
	if shares(s, got) {
		t.Errorf("%d, %s: no memory of its own", dest, short(s))
	}
	said := strings.ReplaceAll(s, "\x00", bad)
	if dest == api.ToRcdata && strings.HasPrefix(s, "\n") {
		said = "\n" + said
	}
	for _, attr := range []bool{false, true} {
		if read := ref.Decode(got, attr); read != said {
			t.Errorf("%d, %s: %s is read as %s (%t)", dest, short(s), short(got), short(read), attr)
		}
	}
}

// check holds what is written of s, to each destination and to some that are none.
func check(t *testing.T, s string) {
	t.Helper()
	for _, dest := range dests {
		got := Encode(dest, s)
		if want := wanted(dest, s); got != want {
			t.Errorf("%d, %s: %s, want %s", dest, short(s), short(got), short(want))
		}
		checkWritten(t, dest, s, got)
	}
	for _, dest := range []int{-1, 3} {
		if got := Encode(dest, s); got != "" {
			t.Errorf("%d, %s: %s, want nothing", dest, short(s), short(got))
		}
	}
}

// is holds what is written of s, and doesn't begin with 10, to all three destinations.
func is(t *testing.T, s, want string) {
	t.Helper()
	check(t, s)
	for _, dest := range dests {
		if got := Encode(dest, s); got != want {
			t.Errorf("%d, %s: %s, want %s", dest, short(s), short(got), short(want))
		}
	}
}

// area holds what is written of s to a text area, and what is to the others.
func area(t *testing.T, s, want, others string) {
	t.Helper()
	check(t, s)
	for dest, want := range map[int]string{api.ToText: others, api.ToAttr: others, api.ToRcdata: want} {
		if got := Encode(dest, s); got != want {
			t.Errorf("%d, %s: %s, want %s", dest, short(s), short(got), short(want))
		}
	}
}

func TestExamples(t *testing.T) {
	is(t, "a<b", "a&lt;b")
	area(t, "\na", "\n\na", "\na")
	// Of the whole.
	is(t, "a <b>", "a &lt;b&gt;")
}

func TestNothing(t *testing.T) {
	is(t, "", "")
}

// TestTable has each row, with other rows beside it.
func TestTable(t *testing.T) {
	for _, a := range table {
		is(t, a.what, a.written)
		for n := range 5 {
			is(t, strings.Repeat(a.what, n), strings.Repeat(a.written, n))
		}
		for _, about := range []string{"a", "é", "€", "😀", " ", "\t", "\f", "\x7f", "\x01", "\x80", "\xff", "\xef", "\xef\xbb", "\xf0\x9f", ";", "#", "amp;", "x41;", bad} {
			is(t, about+a.what, about+a.written)
			is(t, a.what+about, a.written+about)
			is(t, about+a.what+about, about+a.written+about)
			is(t, a.what+about+a.what, a.written+about+a.written)
		}
		is(t, a.what+"\n"+a.what, a.written+"\n"+a.written)
		area(t, "\n"+a.what, "\n\n"+a.written, "\n"+a.written)
		for _, b := range table {
			is(t, a.what+b.what, a.written+b.written)
			is(t, "a"+a.what+b.what+"b", "a"+a.written+b.written+"b")
			is(t, a.what+"a"+b.what, a.written+"a"+b.written)
			for _, c := range table {
				is(t, a.what+b.what+c.what, a.written+b.written+c.written)
			}
		}
	}
}

// one is what stands for a byte alone.
func one(c byte) string {
	for _, r := range table {
		if r.what == string([]byte{c}) {
			return r.written
		}
	}
	return string([]byte{c})
}

// TestEachByte has each alone, at each place of a text, and twice in a row.
func TestEachByte(t *testing.T) {
	for k := range 256 {
		b := string([]byte{byte(k)})
		w := one(byte(k))
		if k != 10 {
			is(t, b, w)
			is(t, b+"x", w+"x")
			is(t, b+b, w+w)
			is(t, b+b+b, w+w+w)
		} else {
			area(t, b, "\n\n", "\n")
			area(t, b+"x", "\n\nx", "\nx")
			area(t, b+b, "\n\n\n", "\n\n")
			area(t, b+b+b, "\n\n\n\n", "\n\n\n")
		}
		is(t, "x"+b+"y", "x"+w+"y")
		is(t, "x"+b, "x"+w)
		is(t, "x"+b+b+"y", "x"+w+w+"y")
		for l := range 256 {
			check(t, string([]byte{byte(k), byte(l)}))
			check(t, string([]byte{'x', byte(k), byte(l), 'y'}))
		}
	}
}

// TestMark has the sign 65279, and what begins as it does.
func TestMark(t *testing.T) {
	const w = "&#65279;"
	for _, c := range []row{
		{markBytes, w},
		{markBytes + "a", w + "a"},
		{"a" + markBytes, "a" + w},
		{"a" + markBytes + "b", "a" + w + "b"},
		{markBytes + markBytes, w + w},
		{"a" + markBytes + markBytes + "b", "a" + w + w + "b"},
		{markBytes + markBytes + markBytes, w + w + w},
		{markBytes + "a" + markBytes, w + "a" + w},
		{"\xef", "\xef"},
		{"\xef\xbb", "\xef\xbb"},
		{"\xbb\xbf", "\xbb\xbf"},
		{"\xbf", "\xbf"},
		{"\xef\xbf", "\xef\xbf"},
		{"\xefa", "\xefa"},
		{"\xef\xbba", "\xef\xbba"},
		{"\xefa\xbb\xbf", "\xefa\xbb\xbf"},
		{"\xef\xbba\xbf", "\xef\xbba\xbf"},
		{"\xef<", "\xef&lt;"},
		{"\xef\xbb<", "\xef\xbb&lt;"},
		{"\xef\xbb\x00\xbf", "\xef\xbb" + bad + "\xbf"},
		{"a\xef", "a\xef"},
		{"a\xef\xbb", "a\xef\xbb"},
		{"\xef" + markBytes, "\xef" + w},
		{"\xef\xbb" + markBytes, "\xef\xbb" + w},
		{"\xef\xef\xbb" + markBytes, "\xef\xef\xbb" + w},
		{markBytes + "\xef", w + "\xef"},
		{markBytes + "\xef\xbb", w + "\xef\xbb"},
		{markBytes + "\xbb\xbf", w + "\xbb\xbf"},
		{markBytes + "\xbf", w + "\xbf"},
		{"\xff" + markBytes, "\xff" + w},
		{"\xf0" + markBytes, "\xf0" + w},
		{"\xf0\x9f" + markBytes, "\xf0\x9f" + w},
		// Signs beside it by their numbers, or by their bytes.
		{"\ufefe\uff00\ufefc", "\ufefe\uff00\ufefc"},
		{"\ufeff\ufefe", w + "\ufefe"},
		{"\xef\xba\xbf\xef\xbc\xbf\xef\xbb\xbe", "\xef\xba\xbf\xef\xbc\xbf\xef\xbb\xbe"},
		{"\xfe\xff\xff\xfe", "\xfe\xff\xff\xfe"},
		{"\ufffe\uffff\u2060\u200b", "\ufffe\uffff\u2060\u200b"},
	} {
		is(t, c.what, c.written)
	}
}

// TestWhatStays has signs of one to four bytes, and bytes that are no sign's.
func TestWhatStays(t *testing.T) {
	for _, s := range []string{
		"a", "\x01", "\x1f", " ", "\t", "\v", "\f", "\x7f", "/", "=", "`", "!", "-", "#", ";", "amp;", "lt", "\\", "abc def", "a\nb", "a\n", " \n", "a\n\n",
		"\u0080", "\u0085", "\u00a0", "\u00ad", "é", "\u07ff", "\u0800", "\u200b", "\u2028", "€", "\ud7ff", "\ue000", bad, "\uffff", "\U00010000", "😀", "\U0010ffff",
		"\uff1c\uff1e\uff06\u2039\u203a\u201c\u201d\u2018\u2019",
		"\x80", "\xbf", "\xc0", "\xc1", "\xf5", "\xff", "\xfe\xff", "\xc0\xbc", "\xe0\x80\xbc", "\xf0\x80\x80\xbc", "\xc0\x80", "\xed\xa0\x80", "\xf4\x90\x80\x80", "\xc3", "\xe2", "\xe2\x82", "\xf0\x9f\x98", "\xe2\x82\xe2\x82", "a\x80b\xffc",
	} {
		is(t, s, s)
		is(t, s+"<"+s, s+"&lt;"+s)
		is(t, "&"+s+"\x00"+s, "&amp;"+s+bad+s)
	}
}

// TestWrittenAlready writes again what is written.
func TestWrittenAlready(t *testing.T) {
	for _, c := range []row{
		{"&amp;", "&amp;amp;"},
		{"&amp;amp;", "&amp;amp;amp;"},
		{"&amp", "&amp;amp"},
		{"&lt;b&gt;", "&amp;lt;b&amp;gt;"},
		{"&#39;&quot;", "&amp;#39;&amp;quot;"},
		{"&#13;", "&amp;#13;"},
		{"&#65279;", "&amp;#65279;"},
		{"&#0;", "&amp;#0;"},
		{"&#xFEFF;", "&amp;#xFEFF;"},
		{"&#10;a", "&amp;#10;a"},
		{"&", "&amp;"},
		{"&&", "&amp;&amp;"},
		{"&;", "&amp;;"},
		{"& amp;", "&amp; amp;"},
		{"&copy=1", "&amp;copy=1"},
		{"&notit;", "&amp;notit;"},
		{"&#", "&amp;#"},
		{"&#x", "&amp;#x"},
		{"&<", "&amp;&lt;"},
		{"&l<t;", "&amp;l&lt;t;"},
		{"<!--&-->", "&lt;!--&amp;--&gt;"},
		{"</textarea>", "&lt;/textarea&gt;"},
		{"<script>'\"</script>", "&lt;script&gt;&#39;&quot;&lt;/script&gt;"},
		{"<a x='y' z=\"\">", "&lt;a x=&#39;y&#39; z=&quot;&quot;&gt;"},
	} {
		is(t, c.what, c.written)
	}
	// Over and over: each time its ampersands alone.
	s := "<"
	for k := range 6 {
		s = Encode(api.ToText, s)
		if want := "&" + strings.Repeat("amp;", k) + "lt;"; s != want {
			t.Errorf("%d times: %s, want %s", k+1, short(s), short(want))
		}
	}
}

// TestLinesEnds has 13 and 10, in each order.
func TestLinesEnds(t *testing.T) {
	for _, c := range []row{
		{"\r", "&#13;"},
		{"\r\r", "&#13;&#13;"},
		{"\r\n", "&#13;\n"},
		{"\r\r\n", "&#13;&#13;\n"},
		{"\r\n\r\n", "&#13;\n&#13;\n"},
		{"\r\n\n", "&#13;\n\n"},
		{"a\r\nb", "a&#13;\nb"},
		{"a\n\rb", "a\n&#13;b"},
		{"a\rb", "a&#13;b"},
		{"a\r", "a&#13;"},
		{"a\n", "a\n"},
		{"a\nb\n", "a\nb\n"},
		{"a\n\nb", "a\n\nb"},
	} {
		is(t, c.what, c.written)
	}
	area(t, "\n\r", "\n\n&#13;", "\n&#13;")
	area(t, "\n\r\n", "\n\n&#13;\n", "\n&#13;\n")
	area(t, "\n\ra", "\n\n&#13;a", "\n&#13;a")
}

// TestLineEndAhead has texts that begin with 10, and some that nearly do.
func TestLineEndAhead(t *testing.T) {
	for n := 1; n < 6; n++ {
		s := strings.Repeat("\n", n)
		area(t, s, "\n"+s, s)
		area(t, s+"a", "\n"+s+"a", s+"a")
		area(t, s+"a\nb", "\n"+s+"a\nb", s+"a\nb")
		area(t, s+" ", "\n"+s+" ", s+" ")
		area(t, s+"<", "\n"+s+"&lt;", s+"&lt;")
		area(t, s+markBytes, "\n"+s+"&#65279;", s+"&#65279;")
		area(t, s+"\x00", "\n"+s+bad, s+bad)
		area(t, s+"\xff", "\n"+s+"\xff", s+"\xff")
		is(t, "\r"+s, "&#13;"+s)
		is(t, " "+s, " "+s)
		is(t, "\t"+s+"a", "\t"+s+"a")
		is(t, "\f"+s, "\f"+s)
		is(t, "\v"+s, "\v"+s)
		is(t, "\x00"+s, bad+s)
		is(t, markBytes+s, "&#65279;"+s)
		is(t, markBytes+s+"a", "&#65279;"+s+"a")
		is(t, "\xef\xbb"+s, "\xef\xbb"+s)
		is(t, "a"+s, "a"+s)
		is(t, "&"+s, "&amp;"+s)
		is(t, "<"+s, "&lt;"+s)
		is(t, "&#10;"+s, "&amp;#10;"+s)
		is(t, "\u0085"+s, "\u0085"+s)
		is(t, "\u2028"+s, "\u2028"+s)
	}
}

// TestOtherDestinations tells nothing of them, whatever the text.
func TestOtherDestinations(t *testing.T) {
	list := []int{-1, -2, -3, 3, 4, 5, 6, 7, 10, 127, 128, 255, 256, 257, 258, -256, -254, 65536, 65538, math.MaxInt32, math.MinInt32, 1 << 32, 1<<32 + 1, 1<<32 + 2, -1 << 32, math.MaxInt, math.MinInt, math.MinInt + 1, math.MinInt + 2}
	for _, dest := range list {
		for _, s := range []string{"", "a", "\n", "\n\n", "a<b>", "&", "\x00", "\r\n", markBytes, "\xff", "?", strings.Repeat("<a>", 1000)} {
			if got := Encode(dest, s); got != "" {
				t.Errorf("%d, %s: %s, want nothing", dest, short(s), short(got))
			}
		}
	}
}

// eachText hands all texts of n of those to see.
func eachText(of []string, n int, see func(string)) {
	if n == 0 {
		see("")
		return
	}
	eachText(of, n-1, func(s string) {
		for _, last := range of {
			see(s + last)
		}
	})
}

// sets are pieces of which all short texts are made.
var sets = []struct {
	of   []string
	most int
}{
	{[]string{"a", "&", "<", ">", "\"", "'", "\r", "\n", "\x00", markBytes}, 4},
	{[]string{"\xef", "\xbb", "\xbf", "\n", "&", "a", "\xbd"}, 6},
	{[]string{"&", "amp;", "lt;", "#", "13", "65279", ";", "\r", "\n"}, 5},
	{[]string{"&amp;", "&", "&lt;", "<", "&#13;", "\r", "\x00", bad, "\n"}, 5},
}

func TestAllShortTexts(t *testing.T) {
	for _, c := range sets {
		for n := range c.most + 1 {
			eachText(c.of, n, func(s string) { check(t, s) })
		}
	}
}

// TestUnlikeTexts are written unlike, but for byte 0 and api.Bad.
func TestUnlikeTexts(t *testing.T) {
	for _, dest := range dests {
		from := map[string]string{}
		see := func(s string) {
			w := Encode(dest, s)
			s = strings.ReplaceAll(s, "\x00", bad)
			if other, ok := from[w]; ok && other != s {
				t.Fatalf("%d: %s and %s are both %s", dest, short(s), short(other), short(w))
			}
			from[w] = s
		}
		for _, c := range sets {
			for n := range c.most + 1 {
				eachText(c.of, n, see)
			}
		}
	}
	for _, dest := range dests {
		if a, b := Encode(dest, "x\x00"), Encode(dest, "x"+bad); a != b || a != "x"+bad {
			t.Errorf("%d: %s, %s", dest, short(a), short(b))
		}
	}
}

// drawn draws a text of bytes of all kinds, of signs, and of what matters.
func drawn(r *rand.Rand) string {
	some := []string{"\n", "\xef", "\xbb", "\xbf", "\xef\xbb", "&amp;", "&#", ";", "é", "€", "😀", bad, "abc", "\r\n"}
	for _, c := range table {
		some = append(some, c.what, c.written)
	}
	var b []byte
	for range r.IntN(20) {
		switch r.IntN(5) {
		case 0:
			b = append(b, byte(r.IntN(256)))
		case 1:
			b = append(b, byte(128+r.IntN(128)))
		case 2:
			b = append(b, string(rune(r.IntN(1114112)))...)
		default:
			b = append(b, some[r.IntN(len(some))]...)
		}
	}
	return string(b)
}

func TestDrawnTexts(t *testing.T) {
	r := rand.New(rand.NewPCG(21, 1))
	for range 100000 {
		check(t, drawn(r))
	}
}

// TestEachSign has all of them, one by one and beside each other.
func TestEachSign(t *testing.T) {
	var all, want strings.Builder
	for n := range 1114112 {
		if n >= 55296 && n <= 57343 {
			continue
		}
		s := string(rune(n))
		w := s
		for _, c := range table {
			if s == c.what {
				w = c.written
			}
		}
		all.WriteString(s)
		want.WriteString(w)
		if got := Encode(api.ToAttr, s); got != w {
			t.Errorf("%d: %s, want %s", n, short(got), short(w))
		}
	}
	is(t, all.String(), want.String())
}

// parted tells whether a sign 65279 stands partly in a, partly in b.
func parted(a, b string) bool {
	return strings.Count(a+b, markBytes) != strings.Count(a, markBytes)+strings.Count(b, markBytes)
}

// TestTextsBehindTexts are written one by one.
func TestTextsBehindTexts(t *testing.T) {
	both := func(a, b string) {
		if parted(a, b) {
			return
		}
		for _, dest := range dests {
			got := Encode(dest, a+b)
			want := Encode(dest, a) + Encode(api.ToText, b)
			if a == "" {
				want = Encode(dest, b)
			}
			if got != want {
				t.Fatalf("%d, %s and %s: %s, want %s", dest, short(a), short(b), short(got), short(want))
			}
		}
	}
	r := rand.New(rand.NewPCG(21, 2))
	for range 100000 {
		both(drawn(r), drawn(r))
	}
	for _, of := range sets {
		for n := range 3 {
			eachText(of.of, n, func(a string) {
				eachText(of.of, 2, func(b string) { both(a, b) })
			})
		}
	}
	// A sign that is parted is no sign on either side.
	for _, dest := range dests {
		for k := 1; k < 3; k++ {
			a, b := "a"+markBytes[:k], markBytes[k:]+"b"
			if got := Encode(dest, a) + Encode(dest, b); got != a+b {
				t.Errorf("%d: %s", dest, short(got))
			}
			if got := Encode(dest, a+b); got != "a&#65279;b" {
				t.Errorf("%d: %s", dest, short(got))
			}
		}
	}
}

// put is a text where it is put, with that quote about it, if it is put in quotes, and what stands behind it there.
func put(dest int, quote, s, behind string) string {
	switch dest {
	case api.ToText:
		return s + behind
	case api.ToAttr:
		return "<a x=" + quote + s + quote + ">" + behind
	}
	return "<textarea>" + s + "</textarea>" + behind
}

// data is what is read of pieces of which the first says what was put there: the last of them is an end, which tells that it ends where it should.
func data(dest int, l []api.Token) (string, bool) {
	if len(l) == 0 || l[len(l)-1].Kind != api.End || l[len(l)-1].Name != "z" {
		return "", false
	}
	l = l[:len(l)-1]
	switch {
	case dest == api.ToText && len(l) == 0:
		return "", true
	case dest == api.ToText && len(l) == 1 && l[0].Kind == api.Text:
		return l[0].Text, true
	case dest == api.ToAttr && len(l) == 1 && len(l[0].Attrs) == 1 && l[0].Attrs[0].Name == "x" && !l[0].Self:
		return l[0].Attrs[0].Value, true
	case dest == api.ToRcdata && len(l) == 2 && l[1].Kind == api.End:
		return "", true
	case dest == api.ToRcdata && len(l) == 3 && l[1].Kind == api.Text && l[2].Kind == api.End:
		return strings.TrimPrefix(l[1].Text, "\n"), true
	}
	return "", false
}

// checkPlaces reads what is written of s where it is put.
func checkPlaces(t *testing.T, s string) {
	t.Helper()
	for _, dest := range dests {
		for _, quote := range []string{"\"", "'"} {
			in := put(dest, quote, Encode(dest, s), "</z>")
			got, ok := data(dest, drive.Drive(lines.Norm(in)))
			if want := strings.ReplaceAll(s, "\x00", bad); !ok || got != want {
				t.Errorf("%d, %s: %s is read as %s, %t", dest, short(s), short(in), short(got), ok)
			}
		}
	}
}

// TestReadWhereItIsPut has what is written read as just what it was.
func TestReadWhereItIsPut(t *testing.T) {
	for k := range 256 {
		checkPlaces(t, string([]byte{byte(k)}))
		checkPlaces(t, "a"+string([]byte{byte(k)})+"b")
	}
	for _, s := range []string{"", "\n", "\n\na", "\r\n", "\na", "a\r", "</textarea>", "<b>", "'>", "\">", "x='y'", "&copy=1", "&amp", "&#0;", "<!--", "</", "&", "a&lt", markBytes, "</z>", "/"} {
		checkPlaces(t, s)
	}
	for n := range 4 {
		eachText(sets[0].of, n, func(s string) { checkPlaces(t, s) })
		eachText(sets[2].of, n, func(s string) { checkPlaces(t, s) })
	}
	r := rand.New(rand.NewPCG(21, 3))
	for range 20000 {
		checkPlaces(t, drawn(r))
	}
}

// TestBounds has texts of which what is written is as long as it may be, or less.
func TestBounds(t *testing.T) {
	for _, c := range []struct {
		of   string
		each int
	}{{"\"", 6}, {"&", 5}, {"'", 5}, {"\r", 5}, {"<", 4}, {">", 4}, {"\x00", 3}, {markBytes, 8}, {"a", 1}, {"\xff", 1}} {
		for _, n := range []int{1, 2, 3, 10, 1000} {
			s := strings.Repeat(c.of, n)
			check(t, s)
			for _, dest := range dests {
				if got := len(Encode(dest, s)); got != n*c.each {
					t.Errorf("%d, %d of %q: %d bytes", dest, n, c.of, got)
				}
			}
		}
	}
	for n := 1; n < 10; n++ {
		if got := len(Encode(api.ToRcdata, strings.Repeat("\n", n))); got != n+1 {
			t.Errorf("%d lines' ends: %d", n, got)
		}
	}
}

// TestLong has long texts, and texts of many signs that become references.
func TestLong(t *testing.T) {
	const n = 30000
	for _, c := range table {
		is(t, strings.Repeat(c.what, n), strings.Repeat(c.written, n))
		is(t, strings.Repeat(c.what+"a", n), strings.Repeat(c.written+"a", n))
		is(t, strings.Repeat("a", n)+c.what, strings.Repeat("a", n)+c.written)
	}
	for _, s := range []string{"abc ", "é", "\xff", "\xef", "\xef\xbb", "\xbf", "a\n", "😀", bad} {
		is(t, strings.Repeat(s, n), strings.Repeat(s, n))
	}
	all := strings.Repeat("\n", n)
	area(t, all, "\n"+all, all)
	var what, written string
	for _, c := range table {
		what += c.what
		written += c.written
	}
	is(t, strings.Repeat(what, n/10), strings.Repeat(written, n/10))
}

// TestNothingIsKept hands in a text twice, with others between.
func TestNothingIsKept(t *testing.T) {
	list := []string{"", "a", "\n", "\na", "a<b>&\"'", "\x00", markBytes, "\r\n", "plain", "\xff"}
	first := map[string]string{}
	for range 3 {
		for _, s := range list {
			for _, dest := range append(dests, -1, 3) {
				key := strconv.Itoa(dest) + s
				got := Encode(dest, s)
				if was, ok := first[key]; ok && was != got {
					t.Errorf("%d, %s: %s, and again %s", dest, short(s), short(was), short(got))
				}
				first[key] = got
			}
		}
	}
}

// TestCallsBesideEachOther has several calls at a time, of the same text and of others.
func TestCallsBesideEachOther(t *testing.T) {
	inputs := []string{"a<b", "\na", "a\x00b", markBytes + "a" + markBytes, "\r\n&", "\"'", "plain"}
	var all sync.WaitGroup
	for begin := range 8 {
		all.Go(func() {
			for k := range 2000 {
				s, dest := inputs[(begin+k)%len(inputs)], (begin+k)%5-1
				if got, want := Encode(dest, s), wanted(dest, s); got != want {
					t.Errorf("%d, %s: %s, want %s", dest, short(s), short(got), short(want))
				}
			}
		})
	}
	all.Wait()
}

func FuzzEscape(f *testing.F) {
	for _, s := range []string{"", "a<b", "\na", "\r\n", markBytes + "a", "a\x00b", "\xef\xbb", "&amp;", "\"'", "é\xff"} {
		for dest := -1; dest < 4; dest++ {
			f.Add(dest, s)
		}
	}
	f.Fuzz(func(t *testing.T, dest int, s string) {
		check(t, s)
		checkPlaces(t, s)
		if got, want := Encode(dest, s), wanted(dest, s); got != want {
			t.Errorf("%d, %s: %s, want %s", dest, short(s), short(got), short(want))
		}
	})
}
