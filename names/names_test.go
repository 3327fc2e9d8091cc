package names

import (
	"math"
	"slices"
	"strconv"
	"strings"
	"testing"

	"flail/api"
)

// named is a line of api.Names, taken apart: a name, and the numbers of its signs, of which there are one or two.
type named struct {
	name  string
	signs []int
}

// all is each line of api.Names.
func all(t testing.TB) []named {
	t.Helper()
	var told []named
	for _, line := range strings.Split(api.Names, "\n") {
		fields := strings.Split(line, " ")
		n := named{name: fields[0]}
		for _, digits := range fields[1:] {
			n.signs = append(n.signs, number16(t, digits))
		}
		if len(n.signs) < 1 || len(n.signs) > 2 {
			t.Fatalf("line %q", line)
		}
		told = append(told, n)
	}
	return told
}

// number16 is the number that those digits are, with sixteen of them.
func number16(t testing.TB, digits string) int {
	t.Helper()
	n := 0
	for k := range len(digits) {
		d := strings.IndexByte("0123456789ABCDEF", digits[k])
		if d < 0 {
			t.Fatalf("digits %q", digits)
		}
		n = n*16 + d
	}
	return n
}

// value is what the chapter asks of Value.
func (n named) value() complex128 {
	if len(n.signs) == 1 {
		return complex(float64(n.signs[0]), 0)
	}
	return complex(float64(n.signs[0]), float64(n.signs[1]))
}

// text is the signs that the name stands for.
func (n named) text() string {
	told := ""
	for _, sign := range n.signs {
		told += wantSign(sign)
	}
	return told
}

// byName is all names, and what they stand for.
func byName(t testing.TB) map[string]named {
	t.Helper()
	told := map[string]named{}
	for _, n := range all(t) {
		told[n.name] = n
	}
	return told
}

// wantSign is chapter 1's Sign, by the lengths of UTF-8's signs.
func wantSign(n int) string {
	low := func(n int) byte { return byte(128 + n%64) }
	switch {
	case n < 0 || n > 1114111 || n >= 55296 && n <= 57343:
		return "\xef\xbf\xbd"
	case n < 128:
		return string([]byte{byte(n)})
	case n < 2048:
		return string([]byte{byte(192 + n/64), low(n)})
	case n < 65536:
		return string([]byte{byte(224 + n/4096), low(n / 64), low(n)})
	}
	return string([]byte{byte(240 + n/262144), low(n / 4096), low(n / 64), low(n)})
}

// wantText is what the chapter asks of Text, of parts of which it promises something.
func wantText(first, second int) string {
	if second == 0 {
		return wantSign(first)
	}
	return wantSign(first) + wantSign(second)
}

// wantLongest is what the chapter asks of Longest: each length is tried, up to 32.
func wantLongest(names map[string]named, s string, at int) int {
	if at < 0 || at > len(s) {
		return 0
	}
	longest := 0
	for n := 1; n <= 32 && n <= len(s)-at; n++ {
		if _, ok := names[s[at:at+n]]; ok {
			longest = n
		}
	}
	return longest
}

// checkName checks Value and Short of a text, be it a name or not.
func checkName(t *testing.T, names map[string]named, s string) {
	t.Helper()
	want, wantOk := names[s]
	wantValue := complex(0, 0)
	if wantOk {
		wantValue = want.value()
	}
	if z, ok := Value(s); z != wantValue || ok != wantOk {
		t.Errorf("Value(%q): %v, %t, want %v, %t", short(s), z, ok, wantValue, wantOk)
	}
	if got, want := Short(s), wantOk && s[len(s)-1] != ';'; got != want {
		t.Errorf("Short(%q): %t, want %t", short(s), got, want)
	}
}

// checkText checks Text of those parts.
func checkText(t *testing.T, first, second int) {
	t.Helper()
	if got, want := Text(complex(float64(first), float64(second))), wantText(first, second); got != want {
		t.Errorf("Text of %d and %d: %q, want %q", first, second, got, want)
	}
}

// checkLongest checks Longest of one place.
func checkLongest(t *testing.T, names map[string]named, s string, at int) {
	t.Helper()
	if got, want := Longest(s, at), wantLongest(names, s, at); got != want {
		t.Errorf("Longest(%q, %d): %d, want %d", short(s), at, got, want)
	}
}

// checkPlaces checks Longest of each place of a text, and of places beside it.
func checkPlaces(t *testing.T, names map[string]named, s string) {
	t.Helper()
	for at := -2; at <= len(s)+2; at++ {
		checkLongest(t, names, s, at)
	}
	for _, at := range farAway() {
		checkLongest(t, names, s, at)
	}
}

// farAway is places that no text has.
func farAway() []int {
	return []int{math.MinInt, math.MinInt + 1, math.MinInt32, -1 << 32, -1<<32 + 1, -33, -32, 1 << 31, 1 << 32, 1<<32 + 1, 1 << 62, math.MaxInt - 32, math.MaxInt - 31, math.MaxInt - 1, math.MaxInt}
}

// short is s, or so much of it as a failing test may tell.
func short(s string) string {
	if len(s) > 100 {
		return s[:100] + ".."
	}
	return s
}

// eachText hands all texts of n of those bytes to see.
func eachText(of string, n int, see func(string)) {
	if n == 0 {
		see("")
		return
	}
	eachText(of, n-1, func(ahead string) {
		for k := range len(of) {
			see(ahead + of[k:k+1])
		}
	})
}

// allBytes is each byte.
func allBytes() string {
	var all []byte
	for c := range 256 {
		all = append(all, byte(c))
	}
	return string(all)
}

// turned is s with its large letters small and its small ones large.
func turned(s string) string {
	return strings.Map(func(r rune) rune {
		switch {
		case r >= 'a' && r <= 'z':
			return r - 32
		case r >= 'A' && r <= 'Z':
			return r + 32
		}
		return r
	}, s)
}

func TestNamesOfTheChapter(t *testing.T) {
	if z, ok := Value("amp;"); z != 38 || !ok {
		t.Errorf("amp;: %v, %t", z, ok)
	}
	if z, ok := Value("NotEqualTilde;"); real(z) != 8770 || imag(z) != 824 || !ok {
		t.Errorf("NotEqualTilde;: %v, %t", z, ok)
	}
	if n := Longest("notit;", 0); n != 3 {
		t.Errorf("notit; from 0: %d", n)
	}
	if Most != 32 {
		t.Errorf("Most: %d", Most)
	}
}

func TestEachName(t *testing.T) {
	lines := all(t)
	names := byName(t)
	if len(lines) != 2231 || len(names) != 2231 {
		t.Fatalf("%d lines, %d names", len(lines), len(names))
	}
	if lines[0].name != "AElig" || lines[len(lines)-1].name != "zwnj;" {
		t.Fatalf("from %q to %q", lines[0].name, lines[len(lines)-1].name)
	}
	two, lengths := 0, map[int]int{}
	for _, n := range lines {
		checkName(t, names, n.name)
		z, ok := Value(n.name)
		if !ok || real(z) != float64(n.signs[0]) || real(z) == 0 {
			t.Errorf("%q: %v, %t, want %v", n.name, z, ok, n.signs)
		}
		if got := Text(z); got != n.text() {
			t.Errorf("text of %q: %q, want %q", n.name, got, n.text())
		}
		if again, _ := Value(n.name); again != z {
			t.Errorf("%q: %v, and then %v", n.name, z, again)
		}
		if len(n.signs) == 2 {
			two++
		}
		for _, sign := range n.signs {
			lengths[len(wantSign(sign))]++
		}
	}
	// What follows is tested of names of all kinds only if there are such.
	if two == 0 || lengths[1] == 0 || lengths[2] == 0 || lengths[3] == 0 || lengths[4] == 0 {
		t.Errorf("%d names of two signs; lengths of signs %v", two, lengths)
	}
}

func TestSomeNames(t *testing.T) {
	for name, want := range map[string]complex128{
		"AElig": 198, "AElig;": 198, "zwnj;": 8204, "zwj;": 8205,
		"amp": 38, "AMP": 38, "AMP;": 38, "lt": 60, "LT;": 60, "gt;": 62, "GT": 62, "quot": 34, "QUOT;": 34, "apos;": 39,
		"Tab;": 9, "NewLine;": 10, "excl;": 33, "nbsp": 160, "yuml;": 255, "fnof;": 402, "euro;": 8364,
		"fflig;": 64256, "Afr;": 120068, "zopf;": 120171, "CounterClockwiseContourIntegral;": 8755,
		"fjlig;": 102 + 106i, "bne;": 61 + 8421i, "nvlt;": 60 + 8402i, "ThickSpace;": 8287 + 8202i, "NotSquareSuperset;": 8848 + 824i, "acE;": 8766 + 819i, "caps;": 8745 + 65024i,
	} {
		if z, ok := Value(name); z != want || !ok {
			t.Errorf("Value(%q): %v, %t, want %v", name, z, ok, want)
		}
	}
	for name, want := range map[string]string{"fjlig;": "fj", "bne;": "=\u20e5", "Tab;": "\t", "nbsp": "\u00a0", "euro;": "\u20ac", "Afr;": "\U0001d504", "caps;": "\u2229\ufe00"} {
		if z, _ := Value(name); Text(z) != want {
			t.Errorf("text of %q: %q, want %q", name, Text(z), want)
		}
	}
}

func TestNoNames(t *testing.T) {
	for _, s := range []string{
		"", ";", ";;", " ", "\n", "&", "#", "&amp", "&amp;", "#38;", "26", "C6", "1D504", "2242 338", "42 338", "8770",
		"a", "A", "am", "ap", "apos", "Amp", "aMP;", "NOT;", "Tab", "nbs", "euro", "zwnj", "zwnj;;", "AEli", "AElig;C6", "aelig ", "Aelig;",
		"amp;;", "amp; ", "amp ", "amp 26", "amp; 26", "amp;\n", "amp\n", "\namp;", " amp;", "amp; 26\nand;", "AElig C6\nAElig; C6", "NotEqualTilde; 2242", "NotEqualTilde; 2242 338", "NotEqualTilde; 2242 ",
		"\x00", "amp;\x00", "amp\x00;", "\x00amp;", "\xff", "amp;\xff", "amp\xff", "\xffamp;", "\xc3\x86lig", "\u00e4", "\uff41\uff4d\uff50;", "am\u0070\u0301;", "\xe1mp;", api.Bad,
		"CounterClockwiseContourIntegral", "CounterClockwiseContourIntegral;;", "counterclockwisecontourintegral;",
		api.Names, api.Names + "\n", strings.Repeat("amp;", 1000), strings.Repeat("a", 1<<20), strings.Repeat(";", 1<<20), "amp;" + strings.Repeat(" ", 1<<20),
	} {
		if z, ok := Value(s); z != 0 || ok {
			t.Errorf("Value(%q): %v, %t", short(s), z, ok)
		}
		if Short(s) {
			t.Errorf("Short(%q): true", short(s))
		}
	}
}

// What is hardly other than a name is one only if a line says so.
func TestTextsNearToNames(t *testing.T) {
	names := byName(t)
	for _, n := range all(t) {
		name := n.name
		last := name[len(name)-1]
		line := name
		for _, sign := range n.signs {
			line += " " + strings.ToUpper(strconv.FormatInt(int64(sign), 16))
		}
		if !strings.Contains("\n"+api.Names+"\n", "\n"+line+"\n") {
			t.Fatalf("no line %q", line)
		}
		for _, s := range []string{
			name[:len(name)-1], name[:len(name)/2], name[1:], strings.TrimSuffix(name, ";"), strings.TrimSuffix(name, ";") + ";",
			name[:len(name)-1] + string([]byte{last - 1}), name[:len(name)-1] + string([]byte{last + 1}), name[:len(name)-1] + string([]byte{last | 128}),
			strings.ToLower(name), strings.ToUpper(name), turned(name), turned(name[:1]) + name[1:], name[:1] + turned(name[1:]),
			name + name, name + ";", name + ";;", ";" + name, "&" + name, name + "&",
			name + " ", " " + name, name + "\n", "\n" + name, name + "\x00", "\x00" + name, name + "\xff", "\xff" + name, name + "\u00e9", name + api.Bad,
			line, line[:len(name)+2], line + "\n", line + "\n" + line, "\n" + line, line[len(name):], line[len(name)+1:],
			strings.Replace(name, "a", "\xe1", 1), strings.Replace(name, "e", "\u00e9", 1),
		} {
			checkName(t, names, s)
		}
		for c := range 256 {
			checkName(t, names, name+string([]byte{byte(c)}))
		}
	}
}

func TestShortTexts(t *testing.T) {
	names := byName(t)
	see := func(s string) {
		checkName(t, names, s)
		checkLongest(t, names, s, 0)
	}
	for n := range 3 {
		eachText(allBytes(), n, see)
	}
	eachText("aegiltmnpADGLTMPu;& \n1\x00\xff", 3, see)
	eachText("gtlTLG;eup", 4, see)
}

func TestText(t *testing.T) {
	edges := []int{0, 1, 9, 10, 13, 32, 38, 59, 65, 126, 127, 128, 129, 160, 255, 256, 824, 2046, 2047, 2048, 2049, 8770, 55294, 55295, 55296, 55297, 56319, 56320, 57342, 57343, 57344, 57345, 65279, 65532, 65533, 65534, 65535, 65536, 65537, 120068, 131071, 262143, 262144, 1048575, 1048576, 1114109, 1114110, 1114111}
	for _, first := range edges {
		for _, second := range edges {
			checkText(t, first, second)
		}
	}
	for n := range 1114112 {
		checkText(t, n, 0)
		checkText(t, 0, n)
	}
	for z, want := range map[complex128]string{
		0: "\x00", 38: "&", 1i: "\x00\x01", 102 + 106i: "fj", 106 + 102i: "jf", 65 + 65i: "AA", 8364: "\u20ac", 65 + 8364i: "A\u20ac", 8364 + 65i: "\u20acA",
		55295: "\ud7ff", 55296: api.Bad, 57343: api.Bad, 57344: "\ue000", 1114111: "\U0010ffff",
		65 + 55295i: "A\ud7ff", 65 + 55296i: "A" + api.Bad, 65 + 57343i: "A" + api.Bad, 65 + 57344i: "A\ue000", 65 + 1114111i: "A\U0010ffff",
		55296 + 57343i: api.Bad + api.Bad, 55357 + 56832i: api.Bad + api.Bad, 1114111 + 1114111i: "\U0010ffff\U0010ffff",
	} {
		if got := Text(z); got != want {
			t.Errorf("Text(%v): %q, want %q", z, got, want)
		}
	}
	// A 0 may have a sign of its own among floats; a part that is it is 0 all the same.
	minus := math.Copysign(0, -1)
	for _, z := range []complex128{complex(65, minus), complex(65, 0)} {
		if got := Text(z); got != "A" {
			t.Errorf("Text(%v): %q", z, got)
		}
	}
	for _, z := range []complex128{complex(minus, 65), complex(0, 65)} {
		if got := Text(z); got != "\x00A" {
			t.Errorf("Text(%v): %q", z, got)
		}
	}
}

func TestLongest(t *testing.T) {
	for _, x := range []struct {
		s     string
		at, n int
	}{
		{"notit;", 0, 3}, {"notin;", 0, 6}, {"notin", 0, 3}, {"notinE;", 0, 7}, {"notinE", 0, 3}, {"notinva;", 0, 8}, {"notinv;", 0, 3}, {"not;", 0, 4}, {"not", 0, 3}, {"no", 0, 0},
		{"amp", 0, 3}, {"amp;", 0, 4}, {"amp;;", 0, 4}, {"ampx;", 0, 3}, {"AMP;", 0, 4}, {"AMPamp", 0, 3}, {"Amp;", 0, 0}, {"amp&amp;", 0, 3}, {"amp&amp;", 4, 4},
		{"&amp;", 0, 0}, {"&amp;", 1, 4}, {"&amp;", 2, 3}, {"&amp;", 3, 0}, {"&amp", 1, 3}, {"amp;amp;", 4, 4}, {"xamp", 1, 3}, {" amp", 0, 0},
		{"gt", 0, 2}, {"gt;", 0, 3}, {"gtcc;", 0, 5}, {"gtcc", 0, 2}, {"gtcir;", 0, 6}, {"gg;", 0, 3}, {"gg", 0, 0}, {"LT", 0, 2}, {"lt", 0, 2}, {"Lt;", 0, 3}, {"Lt", 0, 0},
		{"apos", 0, 0}, {"apos;", 0, 5}, {"copysr;", 0, 7}, {"copysr", 0, 4}, {"frac12", 0, 6}, {"frac13", 0, 0}, {"frac13;", 0, 7}, {"sup1", 0, 4}, {"sup;", 0, 4}, {"sup", 0, 0}, {"sup4", 0, 0}, {"times", 0, 5}, {"timesb;", 0, 7}, {"timesb", 0, 5}, {"timesbar;", 0, 9}, {"timesbar", 0, 5},
		{"AElig", 0, 5}, {"AElig;", 0, 6}, {"AEli", 0, 0}, {"zwnj;", 0, 5}, {"zwnj", 0, 0}, {"zwnj;zwnj;", 5, 5}, {"zzz", 0, 0},
		{"CounterClockwiseContourIntegral;", 0, 32}, {"CounterClockwiseContourIntegral;;", 0, 32}, {"CounterClockwiseContourIntegral", 0, 0}, {"CounterClockwiseContourIntegralx;", 0, 0}, {"xCounterClockwiseContourIntegral;x", 1, 32},
		{"amp 26", 0, 3}, {"amp; 26\n", 0, 4}, {"amp\x00", 0, 3}, {"amp\xff", 0, 3}, {"amp\u00e9", 0, 3}, {"\xe2\x82amp;\xac", 2, 4}, {"\x00", 0, 0}, {"\xff", 0, 0}, {";", 0, 0}, {" ", 0, 0},
		{"", 0, 0}, {"", -1, 0}, {"", 1, 0}, {"amp;", 4, 0}, {"amp;", 5, 0}, {"amp;", 99, 0}, {"amp;", -1, 0}, {"amp;", -4, 0}, {"amp;", math.MaxInt, 0}, {"amp;", math.MinInt, 0},
	} {
		if n := Longest(x.s, x.at); n != x.n {
			t.Errorf("Longest(%q, %d): %d, want %d", x.s, x.at, n, x.n)
		}
	}
}

func TestLongestOfEachName(t *testing.T) {
	names := byName(t)
	longest := 0
	for _, n := range all(t) {
		name := n.name
		longest = max(longest, len(name))
		if got := Longest(name, 0); got != len(name) {
			t.Errorf("Longest(%q, 0): %d", name, got)
		}
		for _, behind := range []string{"", ";", ";;", "a", "b", "x", "A", "1", " ", "\n", "\x00", "=", "&", "&amp;", "\xff", "\u00e9", api.Bad, " 26", name, strings.Repeat("z", 40)} {
			for _, ahead := range []string{"", "&", "a", "&amp", " ", "\n", "\xff", "\u20ac", strings.Repeat("y", 40)} {
				checkLongest(t, names, ahead+name+behind, len(ahead))
			}
		}
		for _, ahead := range []string{"&", name} {
			checkPlaces(t, names, ahead+name)
		}
		for k := range name {
			checkLongest(t, names, name[:k], 0)
			checkLongest(t, names, name[:k]+"\x00"+name[k:], 0)
			checkLongest(t, names, name[:k]+turned(name[k:]), 0)
		}
	}
	if longest != Most {
		t.Errorf("the longest name has %d bytes, Most is %d", longest, Most)
	}
}

func TestLongestOfManyPlaces(t *testing.T) {
	names := byName(t)
	var joined []string
	for _, n := range all(t) {
		joined = append(joined, n.name)
	}
	slices.Reverse(joined)
	for _, s := range []string{api.Names, strings.Join(joined, ""), strings.Join(joined, "&"), strings.Repeat("notin", 1000), strings.Repeat("n", 5000)} {
		for at := range len(s) + 1 {
			checkLongest(t, names, s, at)
		}
	}
	for _, s := range []string{"", ";", "amp", "&amp;", "&CounterClockwiseContourIntegral;", allBytes()} {
		checkPlaces(t, names, s)
	}
	// What stands far behind a place doesn't tell about it.
	long := strings.Repeat("amp;", 1<<18)
	for _, at := range []int{0, 1, 4, len(long) - 4, len(long) - 3, len(long)} {
		checkLongest(t, names, long, at)
	}
}

func TestShortOfEachName(t *testing.T) {
	names := byName(t)
	count := 0
	for _, n := range all(t) {
		bare := strings.TrimSuffix(n.name, ";")
		if Short(bare + ";") {
			t.Errorf("Short(%q): true", bare+";")
		}
		if _, ok := names[bare]; Short(bare) != ok {
			t.Errorf("Short(%q): %t", bare, !ok)
		}
		if Short(n.name) {
			count++
		}
	}
	if count != 106 {
		t.Errorf("%d short names", count)
	}
	for name, want := range map[string]bool{"amp": true, "amp;": false, "AMP": true, "not": true, "not;": false, "notin": false, "notin;": false, "apos": false, "apos;": false, "AElig": true, "yuml": true, "zwnj": false, "zwnj;": false, "": false, ";": false, "x": false, "amp ": false, "amp\n": false, "am": false} {
		if got := Short(name); got != want {
			t.Errorf("Short(%q): %t, want %t", name, got, want)
		}
	}
}

func TestWhatFollows(t *testing.T) {
	for _, n := range all(t) {
		z, ok := Value(n.name)
		text := Text(z)
		if !ok || text == "" || real(z) == 0 {
			t.Errorf("%q stands for nothing: %v", n.name, z)
		}
		if len(text) > 2*len(n.name)+2 {
			t.Errorf("%q stands for %d bytes", n.name, len(text))
		}
		if strings.HasSuffix(n.name, ";") == Short(n.name) {
			t.Errorf("Short(%q): %t", n.name, Short(n.name))
		}
		if !Short(n.name) {
			continue
		}
		if long, ok := Value(n.name + ";"); long != z || !ok {
			t.Errorf("%q: %v; with a semicolon %v, %t", n.name, z, long, ok)
		}
	}
}

func FuzzNames(f *testing.F) {
	names := byName(f)
	for _, s := range []string{"", "amp;", "&notit;", "CounterClockwiseContourIntegral;", "NotEqualTilde; 2242 338", "\xff", "fjlig;\n"} {
		f.Add(s, 0, uint32(8770), uint32(824))
	}
	f.Fuzz(func(t *testing.T, s string, at int, first, second uint32) {
		checkName(t, names, s)
		checkPlaces(t, names, short(s))
		checkLongest(t, names, s, at)
		checkText(t, int(first%1114112), int(second%1114112))
	})
}
