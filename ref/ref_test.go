package ref

import (
	"math"
	"math/big"
	"regexp"
	"slices"
	"strings"
	"testing"

	"flail/api"
)

// bad is the sign 65533 by its bytes, so that the tests hang on no other package's word for it.
const bad = "\xef\xbf\xbd"

// longestName is the longest name.
const longestName = "CounterClockwiseContourIntegral;"

// others is what the numbers from 128 to 159 mean.
var others = []rune("\u20ac\u0081\u201a\u0192\u201e\u2026\u2020\u2021\u02c6\u2030\u0160\u2039\u0152\u008d\u017d\u008f\u0090\u2018\u2019\u201c\u201d\u2022\u2013\u2014\u02dc\u2122\u0161\u203a\u0153\u009d\u017e\u0178")

// wantNames is what each name stands for.
var wantNames = func() map[string]string {
	told := map[string]string{}
	for _, line := range strings.Split(api.Names, "\n") {
		fields := strings.Fields(line)
		for _, digits := range fields[1:] {
			n, _ := new(big.Int).SetString(digits, 16)
			told[fields[0]] += string(rune(n.Int64()))
		}
	}
	return told
}()

// reference is a reference by a number, as one expression.
var reference = regexp.MustCompile(`^&#(?:[xX]([0-9a-fA-F]+)|([0-9]+));?`)

// wantNumber is what the number of those digits means.
func wantNumber(digits string, base int) string {
	n, _ := new(big.Int).SetString(digits, base)
	if n.Sign() == 0 || n.Cmp(big.NewInt(1114111)) > 0 {
		return bad
	}
	switch v := rune(n.Int64()); {
	case v >= 55296 && v <= 57343:
		return bad
	case v >= 128 && v <= 159:
		return string(others[v-128])
	default:
		return string(v)
	}
}

// wantRead is what the chapter asks of Read: a number, else the longest of all names, else the ampersand.
func wantRead(s string, at int, attr bool) (text string, next int) {
	if at < 0 || at >= len(s) || s[at] != '&' {
		return "", at
	}
	left := s[at:]
	if m := reference.FindStringSubmatch(left); m != nil && m[1] != "" {
		return wantNumber(m[1], 16), at + len(m[0])
	} else if m != nil {
		return wantNumber(m[2], 10), at + len(m[0])
	}
	for end := min(len(left), 33); end > 1; end-- {
		name := left[1:end]
		text, ok := wantNames[name]
		if !ok {
			continue
		}
		if attr && name[len(name)-1] != ';' && end < len(left) && strings.IndexByte("=abcdefghijklmnopqrstuvwxyzABCDEFGHIJKLMNOPQRSTUVWXYZ0123456789", left[end]) >= 0 {
			text = "&" + name
		}
		return text, at + end
	}
	return "&", at + 1
}

// wantDecode is what the chapter asks of Decode, byte by byte.
func wantDecode(s string, attr bool) string {
	told := []byte{}
	for at := 0; at < len(s); {
		if s[at] != '&' {
			told = append(told, s[at])
			at++
			continue
		}
		text, next := wantRead(s, at, attr)
		told = append(told, text...)
		at = next
	}
	return string(told)
}

// short is s, or so much of it as a failing test may tell.
func short(s string) string {
	if len(s) > 100 {
		return s[:100] + ".."
	}
	return s
}

// checkAt checks Read at one place of s, in an attribute and elsewhere.
func checkAt(t *testing.T, s string, at int) {
	t.Helper()
	for _, attr := range []bool{false, true} {
		text, next := Read(s, at, attr)
		wantText, wantNext := wantRead(s, at, attr)
		if text != wantText || next != wantNext {
			t.Errorf("Read(%q, %d, %t): %q, %d, want %q, %d", short(s), at, attr, text, next, wantText, wantNext)
		}
	}
}

// checkPlaces checks Read at each place of s, and beside them.
func checkPlaces(t *testing.T, s string) {
	t.Helper()
	for at := -2; at <= len(s)+2; at++ {
		checkAt(t, s, at)
	}
	for _, at := range farAway() {
		checkAt(t, s, at)
	}
}

// checkDecode checks Decode of s, and what follows of it (P7.3).
func checkDecode(t *testing.T, s string) {
	t.Helper()
	for _, attr := range []bool{false, true} {
		got, want := Decode(s, attr), wantDecode(s, attr)
		if got != want {
			t.Errorf("Decode(%q, %t): %q, want %q", short(s), attr, short(got), short(want))
		}
		if len(got) > 3*len(s) {
			t.Errorf("Decode(%q, %t): %d bytes of %d", short(s), attr, len(got), len(s))
		}
		if !strings.Contains(s, "&") && got != s {
			t.Errorf("Decode(%q, %t): %q, though it has no ampersand", short(s), attr, short(got))
		}
	}
}

// check checks all of s.
func check(t *testing.T, s string) {
	t.Helper()
	checkPlaces(t, s)
	checkDecode(t, s)
}

// farAway is places that no text has.
func farAway() []int {
	return []int{math.MinInt, math.MinInt + 1, math.MinInt32, -1 << 32, -1<<32 + 1, -33, 1 << 31, 1 << 32, 1<<32 + 1, math.MaxInt - 1, math.MaxInt}
}

// eachText hands all texts of n of those parts to see.
func eachText(of []string, n int, see func(string)) {
	if n == 0 {
		see("")
		return
	}
	eachText(of, n-1, func(ahead string) {
		for _, part := range of {
			see(ahead + part)
		}
	})
}

// eachByte is each byte, as a text of its own.
func eachByte() []string {
	var told []string
	for c := range 256 {
		told = append(told, string([]byte{byte(c)}))
	}
	return told
}

// allNames is each name, in order.
func allNames() []string {
	var told []string
	for name := range wantNames {
		told = append(told, name)
	}
	slices.Sort(told)
	return told
}

func TestReadWhereNoAmpersandStands(t *testing.T) {
	for _, s := range []string{"", "a", "a&lt;b", "&", "&&", "&amp;", "#65;", "lt;", "\xff&\xff"} {
		places := append(farAway(), -2, -1, len(s), len(s)+1, len(s)+2)
		for at := range len(s) {
			if s[at] != '&' {
				places = append(places, at)
			}
		}
		for _, at := range places {
			for _, attr := range []bool{false, true} {
				if text, next := Read(s, at, attr); text != "" || next != at {
					t.Errorf("Read(%q, %d, %t): %q, %d", s, at, attr, text, next)
				}
			}
		}
	}
}

func TestRead(t *testing.T) {
	for _, x := range []struct {
		s    string
		at   int
		text string
		next int
	}{
		// An ampersand at the end, and one behind another.
		{"&", 0, "&", 1}, {"a&", 1, "&", 2}, {"&&", 0, "&", 1}, {"&&", 1, "&", 2}, {"&&lt;", 0, "&", 1}, {"&&lt;", 1, "<", 5}, {"&lt&gt;", 0, "<", 3}, {"& lt;", 0, "&", 1}, {"&;", 0, "&", 1}, {"&=", 0, "&", 1},
		// Numbers, with ten digits and with sixteen, with a semicolon and without.
		{"&#65;", 0, "A", 5}, {"&#65", 0, "A", 4}, {"&#65;;", 0, "A", 5}, {"&#65 ;", 0, "A", 4}, {"&#x41;", 0, "A", 6}, {"&#X41", 0, "A", 5}, {"&#x4a;", 0, "J", 6}, {"&#x4A;", 0, "J", 6}, {"&#x41g", 0, "A", 5}, {"&#65a", 0, "A", 4}, {"&#38;lt;", 0, "&", 5}, {"&#13;", 0, "\r", 5}, {"&#10", 0, "\n", 4}, {"a&#65;b", 1, "A", 6},
		// Numbers that mean another sign, or none, and numbers beyond all signs.
		{"&#128;", 0, "\u20ac", 6}, {"&#x9f;", 0, "\u0178", 6}, {"&#129", 0, "\u0081", 5}, {"&#160;", 0, "\u00a0", 6}, {"&#0;", 0, bad, 4}, {"&#x0", 0, bad, 4}, {"&#xD800;", 0, bad, 8}, {"&#xdfff", 0, bad, 7}, {"&#xE000;", 0, "\ue000", 8}, {"&#1114111;", 0, "\U0010ffff", 10}, {"&#1114112;", 0, bad, 10}, {"&#x110000;", 0, bad, 10}, {"&#18446744073709551681;", 0, bad, 23}, {"&#x10000000000000041", 0, bad, 20}, {"&#00000000000000000000065;", 0, "A", 26},
		// What looks like the beginning of a number, and is none.
		{"&#", 0, "&", 1}, {"&#;", 0, "&", 1}, {"&#x", 0, "&", 1}, {"&#x;", 0, "&", 1}, {"&#X;", 0, "&", 1}, {"&#xg", 0, "&", 1}, {"&#a;", 0, "&", 1}, {"&# 65;", 0, "&", 1}, {"&#x 41;", 0, "&", 1}, {"&#-65;", 0, "&", 1}, {"&#+65;", 0, "&", 1}, {"&##65;", 0, "&", 1}, {"&x41;", 0, "&", 1}, {"&65;", 0, "&", 1}, {"& #65;", 0, "&", 1}, {"&#lt;", 0, "&", 1}, {"&#amp;", 0, "&", 1}, {"&#&#65;", 0, "&", 1}, {"&#\xd9\xa1;", 0, "&", 1},
		// Names, with a semicolon and without, and what is none.
		{"&amp;", 0, "&", 5}, {"&amp", 0, "&", 4}, {"&AMP", 0, "&", 4}, {"&ampx", 0, "&", 4}, {"&amp;;", 0, "&", 5}, {"&amp ;", 0, "&", 4}, {"&Amp;", 0, "&", 1}, {"&am", 0, "&", 1}, {"&lt", 0, "<", 3}, {"&LT;", 0, "<", 4}, {"&Lt;", 0, "\u226a", 4}, {"&Lt", 0, "&", 1}, {"&apos", 0, "&", 1}, {"&apos;", 0, "'", 6}, {"&nosuch;", 0, "&", 1}, {"&unknown;", 0, "&", 1}, {"&zz", 0, "&", 1}, {"&\x00amp;", 0, "&", 1}, {"&\xffamp;", 0, "&", 1}, {"&\u00e9", 0, "&", 1}, {"&\n", 0, "&", 1},
		// Names of which others are the beginning.
		{"&not", 0, "\u00ac", 4}, {"&not;", 0, "\u00ac", 5}, {"&noti", 0, "\u00ac", 4}, {"&notit;", 0, "\u00ac", 4}, {"&notin", 0, "\u00ac", 4}, {"&notin;", 0, "\u2209", 7}, {"&notinva;", 0, "\u2209", 9}, {"&notinv", 0, "\u00ac", 4}, {"&gtcc;", 0, "\u2aa7", 6}, {"&gtcc", 0, ">", 3}, {"&copysr;", 0, "\u2117", 8}, {"&copysr", 0, "\u00a9", 5}, {"&times;", 0, "\u00d7", 7}, {"&timesbar;", 0, "\u2a31", 10}, {"&sup", 0, "&", 1}, {"&sup1", 0, "\u00b9", 5},
		// Names of one sign and of two, and the longest.
		{"&Afr;", 0, "\U0001d504", 5}, {"&fjlig;", 0, "fj", 7}, {"&NotEqualTilde;", 0, "\u2242\u0338", 15}, {"&nLt;", 0, "\u226a\u20d2", 5}, {"&NewLine;", 0, "\n", 9}, {"&" + longestName, 0, "\u2233", 33}, {"&" + longestName + ";", 0, "\u2233", 33}, {"&" + longestName[:31], 0, "&", 1}, {"a&" + longestName + "a", 1, "\u2233", 34},
		// An ampersand told by a name isn't the beginning of another.
		{"&amp;lt;", 0, "&", 5}, {"&amp;amp;", 0, "&", 5}, {"&ampamp;", 0, "&", 4}, {"&amp#65;", 0, "&", 4},
	} {
		if text, next := Read(x.s, x.at, false); text != x.text || next != x.next {
			t.Errorf("Read(%q, %d, false): %q, %d, want %q, %d", x.s, x.at, text, next, x.text, x.next)
		}
	}
}

func TestReadInAnAttribute(t *testing.T) {
	for _, x := range []struct {
		s    string
		text string
		next int
	}{
		// A short name, with each kind of byte behind it.
		{"&copy=1", "&copy", 5}, {"&copy=", "&copy", 5}, {"&copya", "&copy", 5}, {"&copyz", "&copy", 5}, {"&copyA", "&copy", 5}, {"&copyZ", "&copy", 5}, {"&copy0", "&copy", 5}, {"&copy9", "&copy", 5}, {"&copy;", "\u00a9", 6}, {"&copy ", "\u00a9", 5}, {"&copy&", "\u00a9", 5}, {"&copy-", "\u00a9", 5}, {"&copy_", "\u00a9", 5}, {"&copy/", "\u00a9", 5}, {"&copy:", "\u00a9", 5}, {"&copy<", "\u00a9", 5}, {"&copy>", "\u00a9", 5}, {"&copy@", "\u00a9", 5}, {"&copy[", "\u00a9", 5}, {"&copy`", "\u00a9", 5}, {"&copy{", "\u00a9", 5}, {"&copy\"", "\u00a9", 5}, {"&copy\n", "\u00a9", 5}, {"&copy\x00", "\u00a9", 5}, {"&copy\xff", "\u00a9", 5}, {"&copy\u00e9", "\u00a9", 5}, {"&copy", "\u00a9", 5}, {"&amp=", "&amp", 4}, {"&ampamp;", "&amp", 4}, {"&amp", "&", 4}, {"&amp =", "&", 4},
		// The longest name counts, be it short or not.
		{"&notit;", "&not", 4}, {"&notin;", "\u2209", 7}, {"&notin", "&not", 4}, {"&copysr;", "\u2117", 8}, {"&copysr=", "&copy", 5}, {"&gtcc", "&gt", 3}, {"&gt\n=", ">", 3},
		// A name with a semicolon, with anything behind it.
		{"&copy;=", "\u00a9", 6}, {"&copy;a", "\u00a9", 6}, {"&copy;1", "\u00a9", 6}, {"&copy;;", "\u00a9", 6}, {"&apos;=", "'", 6}, {"&apos=", "&", 1}, {"&fjlig;x", "fj", 7}, {"&" + longestName + "=", "\u2233", 33},
		// A number, with anything behind it.
		{"&#65=", "A", 4}, {"&#65a", "A", 4}, {"&#65;a", "A", 5}, {"&#65;=", "A", 5}, {"&#x41=", "A", 5}, {"&#x41z", "A", 5}, {"&#x41;1", "A", 6}, {"&#128=", "\u20ac", 5}, {"&#=", "&", 1}, {"&#x=", "&", 1},
		// What is none.
		{"&", "&", 1}, {"&=", "&", 1}, {"&a=1", "&", 1}, {"&;", "&", 1}, {"&nosuch=1", "&", 1},
	} {
		if text, next := Read(x.s, 0, true); text != x.text || next != x.next {
			t.Errorf("Read(%q, 0, true): %q, %d, want %q, %d", x.s, text, next, x.text, x.next)
		}
		if text, next := Read("a&b"+x.s, 3, true); text != x.text || next != x.next+3 {
			t.Errorf("Read(%q, 3, true): %q, %d, want %q, %d", "a&b"+x.s, text, next, x.text, x.next+3)
		}
	}
}

func TestReadOfEachName(t *testing.T) {
	behinds := append(eachByte(), "", ";;", ";=", ";a", "=1", "amp;", "&amp;", "\u00e9", " =", strings.Repeat("z", 40))
	for _, name := range allNames() {
		for _, behind := range behinds {
			checkAt(t, "&"+name+behind, 0)
		}
		for end := range name {
			checkAt(t, "&"+name[:end], 0)
			checkAt(t, "&"+name[:end]+"=", 0)
			checkAt(t, "&"+name[:end]+"\x00"+name[end:], 0)
			checkAt(t, "x&"+name[end:], 1)
		}
		checkPlaces(t, "&"+name+"&"+name)
		checkDecode(t, name+"&"+name+"&"+name+name)
	}
}

func TestReadOfNumbers(t *testing.T) {
	var numbers []string
	for n := range 300 {
		numbers = append(numbers, big.NewInt(int64(n)).Text(10), "x"+big.NewInt(int64(n)).Text(16))
	}
	for _, n := range []int64{55295, 55296, 57343, 57344, 65533, 65535, 65536, 1114111, 1114112, math.MaxInt32, math.MaxInt64} {
		numbers = append(numbers, big.NewInt(n).Text(10), "X"+big.NewInt(n).Text(16))
	}
	numbers = append(numbers, strings.Repeat("0", 1000)+"65", strings.Repeat("9", 1000), "x"+strings.Repeat("0", 1000)+"41", "x1"+strings.Repeat("0", 1000), "18446744073709551681", "x10000000000000041")
	for _, number := range numbers {
		for _, behind := range []string{"", ";", ";;", "=", "a", "g", "Z", "x", "#", "&", " ", "\x00", "\xff", ";=", ";a", ";1"} {
			checkAt(t, "&#"+number+behind, 0)
			checkAt(t, "\xff&#"+number+behind, 1)
			checkDecode(t, "a&#"+number+behind+"&#"+number)
		}
	}
}

func TestAllShortTexts(t *testing.T) {
	for n := range 3 {
		eachText(eachByte(), n, func(s string) {
			checkDecode(t, "&"+s)
			checkAt(t, "&"+s, 0)
			checkAt(t, s, 0)
		})
	}
	eachText(eachByte(), 1, func(s string) { check(t, s) })
	parts := []string{"&", ";", "#", "x", "=", "amp", "lt", "not", "in", "65", "38", "\xff"}
	for n := range 5 {
		eachText(parts, n, func(s string) { check(t, s) })
	}
	for _, ahead := range []string{"&", "&#", "&#x", "&amp", "&notin", "&#38"} {
		eachText(parts, 3, func(s string) { checkDecode(t, ahead+s) })
	}
}

func TestDecode(t *testing.T) {
	for _, x := range []struct {
		s, want, attr string
	}{
		{"", "", ""},
		{"a", "a", "a"},
		{"lt; #65; amp", "lt; #65; amp", "lt; #65; amp"},
		{"a&b", "a&b", "a&b"},
		{"&", "&", "&"},
		{"&&&", "&&&", "&&&"},
		{"a&lt;b", "a<b", "a<b"},
		{"&lt;b", "<b", "<b"},
		{"a&lt;", "a<", "a<"},
		{"a&lt", "a<", "a<"},
		{"&lt;&gt;", "<>", "<>"},
		{"&lt&gt", "<>", "<>"},
		{"&lt;&&gt;&", "<&>&", "<&>&"},
		{"&#65;&#x42;&#67", "ABC", "ABC"},
		{"&#65&#66", "AB", "AB"},
		// What is told would be a reference, if it were read again.
		{"&amp;lt;", "&lt;", "&lt;"},
		{"&amp;amp;", "&amp;", "&amp;"},
		{"&amp;amp;amp;", "&amp;amp;", "&amp;amp;"},
		{"&#38;lt;", "&lt;", "&lt;"},
		{"&#x26;#65;", "&#65;", "&#65;"},
		{"&amp&amp;", "&&", "&&"},
		{"&&amp;", "&&", "&&"},
		{"&amp;#65;", "&#65;", "&#65;"},
		{"&#38;#38;", "&#38;", "&#38;"},
		{"&#3&#56;;", "\x038;", "\x038;"},
		{"&a&#109;p;", "&amp;", "&amp;"},
		{"&l&#116;", "&lt", "&lt"},
		{"&#&#54;5;", "&#65;", "&#65;"},
		// In an attribute a short name may stay.
		{"&ampamp;", "&amp;", "&ampamp;"},
		{"&amp=", "&=", "&amp="},
		{"&amp=&amp;", "&=&", "&amp=&"},
		{"?a=b&copy=1&lt=2", "?a=b\u00a9=1<=2", "?a=b&copy=1&lt=2"},
		{"?a=b&copy;=1&lt", "?a=b\u00a9=1<", "?a=b\u00a9=1<"},
		{"&notit;", "\u00acit;", "&notit;"},
		{"&notin;", "\u2209", "\u2209"},
		{"&not&not", "\u00ac\u00ac", "\u00ac\u00ac"},
		{"&notnot", "\u00acnot", "&notnot"},
		{"&copy&copya", "\u00a9\u00a9a", "\u00a9&copya"},
		{"&#65=&#66a", "A=Ba", "A=Ba"},
		// What is no reference stays.
		{"&#;&#x;&", "&#;&#x;&", "&#;&#x;&"},
		{"&unknown; & &\n&;", "&unknown; & &\n&;", "&unknown; & &\n&;"},
		{"a=1&b=2", "a=1&b=2", "a=1&b=2"},
		// Bytes that are no signs, and those that mark up, or end a line, stay as they are.
		{"\xff&lt;\xff", "\xff<\xff", "\xff<\xff"},
		{"\xe2\x82&amp\xac", "\xe2\x82&\xac", "\xe2\x82&\xac"},
		{"&\xff", "&\xff", "&\xff"},
		{"\x00&#0;\x00", "\x00" + bad + "\x00", "\x00" + bad + "\x00"},
		{"<\r\n&#13;\r>", "<\r\n\r\r>", "<\r\n\r\r>"},
		{"\u20ac&euro;\u20ac", "\u20ac\u20ac\u20ac", "\u20ac\u20ac\u20ac"},
	} {
		if got := Decode(x.s, false); got != x.want {
			t.Errorf("Decode(%q, false): %q, want %q", x.s, got, x.want)
		}
		if got := Decode(x.s, true); got != x.attr {
			t.Errorf("Decode(%q, true): %q, want %q", x.s, got, x.attr)
		}
	}
}

func TestWhatHasNoAmpersandStays(t *testing.T) {
	var all []string
	for _, c := range eachByte() {
		if c != "&" {
			all = append(all, c)
		}
	}
	for n := range 3 {
		eachText(all, n, func(s string) { checkDecode(t, s) })
	}
	long := strings.Repeat(strings.Join(all, "")+"amp;#65;lt", 3000)
	checkDecode(t, long)
	checkDecode(t, long+"&amp;")
	checkDecode(t, "&amp;"+long)
}

func TestWhatIsToldIsNotReadAgain(t *testing.T) {
	// An ampersand, written in one of its ways, makes of what stands behind it just that.
	for _, amp := range []string{"&amp;", "&AMP;", "&#38;", "&#x26;", "&#0038;"} {
		for _, name := range allNames() {
			for _, attr := range []bool{false, true} {
				if got := Decode(amp+name, attr); got != "&"+name {
					t.Errorf("Decode(%q, %t): %q", amp+name, attr, got)
				}
			}
		}
		for _, number := range []string{"#65;", "#x41;", "#38;amp;", "#"} {
			if got := Decode(amp+number, false); got != "&"+number {
				t.Errorf("Decode(%q, false): %q", amp+number, got)
			}
		}
	}
	// However often it is written, one of them is read at once.
	s := "&" + strings.Repeat("amp;", 1000) + "lt;"
	for n := 999; n >= 0; n-- {
		s = Decode(s, n%2 == 0)
		if want := "&" + strings.Repeat("amp;", n) + "lt;"; s != want {
			t.Fatalf("%d times amp;: %q", n, short(s))
		}
	}
	if s = Decode(s, false); s != "<" {
		t.Errorf("at last: %q", s)
	}
}

func TestHowLongATextBecomes(t *testing.T) {
	// References that are short beside what they tell.
	for _, s := range []string{"&#0", "&#1", "&#x0", "&nGt;", "&nLt;", "&nvlt;", "&Gt;", "&lE;", "&Mu;", "&#128", "&fjlig;", "&gt", "&"} {
		for _, n := range []int{1, 2, 3, 1000} {
			checkDecode(t, strings.Repeat(s, n))
		}
	}
	for _, name := range allNames() {
		told := Decode("&"+name, false)
		if len(told) == 0 || len(told) > 3*(len(name)+1) {
			t.Errorf("Decode(%q, false): %d bytes of %d", "&"+name, len(told), len(name)+1)
		}
	}
}

func TestLongTexts(t *testing.T) {
	for _, s := range []string{"&", "&amp;", "&amp", "&#65", "&#", "&notit;", "&copy=", "a", "&" + longestName, "&#128;\xff", "&\xff\u00e9"} {
		checkDecode(t, strings.Repeat(s, 10000))
	}
	checkDecode(t, "&#"+strings.Repeat("0", 200000)+"65;")
	checkDecode(t, "&#x"+strings.Repeat("f", 200000)+";")
	checkDecode(t, "&"+strings.Join(allNames(), "&"))
	checkDecode(t, strings.ReplaceAll(api.Names, "\n", "&"))
	checkDecode(t, api.Names)
}

func FuzzRef(f *testing.F) {
	for _, s := range []string{"", "a&lt;b", "&amp;lt;", "&notit;", "&copy=1", "&#128;&#x;&#xD800", "&" + longestName, "\xff&\xff"} {
		f.Add(s, 0)
		f.Add(s, 1)
	}
	f.Fuzz(func(t *testing.T, s string, at int) {
		checkAt(t, s, at)
		checkDecode(t, s)
		checkPlaces(t, s[:min(len(s), 200)])
	})
}
