package number

import (
	"math"
	"math/big"
	"regexp"
	"strings"
	"testing"
)

// bad is the sign 65533 by its bytes, so that the tests hang on no other package's word for it.
const bad = "\xef\xbf\xbd"

// beyond is what Value tells of all numbers that are greater than each sign's.
const beyond = 1114112

// wantFixed is what the chapter asks of Fix for 128 to 159, put down as signs, in the chapter's order.
var wantFixed = [...]string{
	"\u20ac", "\u0081", "\u201a", "\u0192", "\u201e", "\u2026", "\u2020", "\u2021",
	"\u02c6", "\u2030", "\u0160", "\u2039", "\u0152", "\u008d", "\u017d", "\u008f",
	"\u0090", "\u2018", "\u2019", "\u201c", "\u201d", "\u2022", "\u2013", "\u2014",
	"\u02dc", "\u2122", "\u0161", "\u203a", "\u0153", "\u009d", "\u017e", "\u0178",
}

// wantFix is what the chapter asks of Fix.
func wantFix(n int) string {
	switch {
	case n <= 0 || n > 1114111 || n >= 55296 && n <= 57343:
		return bad
	case n >= 128 && n <= 159:
		return wantFixed[n-128]
	}
	return string([]rune{rune(n)})
}

// wantValue is what the chapter asks of Value, by numbers that are never too great.
func wantValue(digits string, sixteen bool) int {
	known, base := "0123456789", 10
	if sixteen {
		known, base = "0123456789abcdefABCDEF", 16
	}
	if digits == "" || strings.Trim(digits, known) != "" {
		return -1
	}
	for k := range len(digits) {
		if strings.IndexByte(known, digits[k]) < 0 {
			return -1
		}
	}
	n, _ := new(big.Int).SetString(digits, base)
	if n.Cmp(big.NewInt(1114111)) > 0 {
		return beyond
	}
	return int(n.Int64())
}

// reference is the chapter's reference by a number, as one expression.
var reference = regexp.MustCompile(`^#(?:[xX]([0-9a-fA-F]+)|([0-9]+));?`)

// wantRead is what the chapter asks of Read.
func wantRead(s string, at int) (text string, next int, ok bool) {
	if at < 0 || at > len(s) {
		return "", at, false
	}
	m := reference.FindStringSubmatch(s[at:])
	if m == nil {
		return "", at, false
	}
	return wantFix(wantValue(m[1]+m[2], m[1] != "")), at + len(m[0]), true
}

// checkValue checks Value of those digits, with ten and with sixteen.
func checkValue(t *testing.T, digits string) {
	t.Helper()
	for _, sixteen := range []bool{false, true} {
		if got, want := Value(digits, sixteen), wantValue(digits, sixteen); got != want {
			t.Errorf("Value(%q, %t): %d, want %d", digits, sixteen, got, want)
		}
	}
}

// checkReadAt checks Read at one place of s.
func checkReadAt(t *testing.T, s string, at int) {
	t.Helper()
	text, next, ok := Read(s, at)
	wantText, wantNext, wantOk := wantRead(s, at)
	if text != wantText || next != wantNext || ok != wantOk {
		t.Errorf("Read(%q, %d): %q, %d, %t, want %q, %d, %t", s, at, text, next, ok, wantText, wantNext, wantOk)
	}
}

// checkRead checks Read at each place of s, and beside them.
func checkRead(t *testing.T, s string) {
	t.Helper()
	for at := -2; at <= len(s)+2; at++ {
		checkReadAt(t, s, at)
	}
}

// eachText hands all texts of n of those bytes to see.
func eachText(of string, n int, see func(string)) {
	if n == 0 {
		see("")
		return
	}
	eachText(of, n-1, func(ahead string) {
		for k := range len(of) {
			see(ahead + of[k:k+1])
		}
	})
}

// allBytes is each byte, once.
func allBytes() string {
	b := make([]byte, 256)
	for c := range b {
		b[c] = byte(c)
	}
	return string(b)
}

func TestFixOfOthers(t *testing.T) {
	for k, want := range wantFixed {
		if got := Fix(128 + k); got != want {
			t.Errorf("Fix(%d): %q, want %q", 128+k, got, want)
		}
	}
	// Five of them mean just themselves.
	for _, n := range []int{129, 141, 143, 144, 157} {
		if got := Fix(n); got != string(rune(n)) {
			t.Errorf("Fix(%d): %q", n, got)
		}
	}
}

func TestFixEdges(t *testing.T) {
	for n, want := range map[int]string{
		math.MinInt: bad,
		-1 << 32:    bad,
		-128:        bad,
		-65:         bad,
		-1:          bad,
		0:           bad,
		1:           "\x01",
		9:           "\t",
		10:          "\n",
		13:          "\r",
		38:          "&",
		65:          "A",
		127:         "\x7f",
		128:         "\xe2\x82\xac",
		159:         "\xc5\xb8",
		160:         "\xc2\xa0",
		161:         "\xc2\xa1",
		55295:       "\xed\x9f\xbf",
		55296:       bad,
		56320:       bad,
		57343:       bad,
		57344:       "\xee\x80\x80",
		65279:       "\xef\xbb\xbf",
		65533:       bad,
		65534:       "\xef\xbf\xbe",
		65535:       "\xef\xbf\xbf",
		65536:       "\xf0\x90\x80\x80",
		1114111:     "\xf4\x8f\xbf\xbf",
		1114112:     bad,
		1 << 21:     bad,
		1<<31 + 65:  bad,
		1<<32 + 65:  bad,
		1<<32 + 128: bad,
		1 << 62:     bad,
		math.MaxInt: bad,
	} {
		if got := Fix(n); got != want {
			t.Errorf("Fix(%d): %q, want %q", n, got, want)
		}
	}
}

func TestFixOfAllNumbers(t *testing.T) {
	for n := -70000; n < 1200000; n++ {
		if got, want := Fix(n), wantFix(n); got != want {
			t.Fatalf("Fix(%d): %q, want %q", n, got, want)
		}
	}
}

func TestValue(t *testing.T) {
	for _, x := range []struct {
		digits       string
		ten, sixteen int
	}{
		{"", -1, -1},
		{"0", 0, 0},
		{"00", 0, 0},
		{"7", 7, 7},
		{"12", 12, 18},
		{"41", 41, 65},
		{"8364", 8364, 33636},
		{"20AC", -1, 8364},
		{"20ac", -1, 8364},
		{"fF", -1, 255},
		{"aBcDe", -1, 703710},
		{"0010", 10, 16},
		// The greatest number of a sign, and the one behind it.
		{"1114110", 1114110, beyond},
		{"1114111", 1114111, beyond},
		{"1114112", beyond, beyond},
		{"1114113", beyond, beyond},
		{"9999999", beyond, beyond},
		{"10FFFE", -1, 1114110},
		{"10ffff", -1, 1114111},
		{"110000", 110000, beyond},
		{"110001", 110001, beyond},
		{"0001114111", 1114111, beyond},
		{"0001114112", beyond, beyond},
		{"00010ffff", -1, 1114111},
		{"000110000", 110000, beyond},
		// What is just as much, if it is cut to 32 or 64 bits.
		{"4294967296", beyond, beyond},
		{"4294967361", beyond, beyond},
		{"100000041", beyond, beyond},
		{"18446744073709551616", beyond, beyond},
		{"18446744073709551681", beyond, beyond},
		{"10000000000000041", beyond, beyond},
		{"9007199254740993", beyond, beyond},
		// One that isn't such a digit: the first, one within, the last; also beyond all signs.
		{"a", -1, 10},
		{"f", -1, 15},
		{"g", -1, -1},
		{"G", -1, -1},
		{"1a", -1, 26},
		{"a1", -1, 161},
		{"1a1", -1, 417},
		{"g1", -1, -1},
		{"1g1", -1, -1},
		{"1g", -1, -1},
		{"9999999g", -1, -1},
		{"9999999g9", -1, -1},
		{"g9999999", -1, -1},
		{"9999999a", -1, beyond},
		{"-1", -1, -1},
		{"+1", -1, -1},
		{"1_0", -1, -1},
		{"1.0", -1, -1},
		{"1e3", -1, 483},
		{"0x41", -1, -1},
		{"x41", -1, -1},
		{"#65", -1, -1},
		{"65;", -1, -1},
		{" 65", -1, -1},
		{"65 ", -1, -1},
		{"65\n", -1, -1},
		{"65\x00", -1, -1},
		{"Inf", -1, -1},
		{"NaN", -1, -1},
		// Bytes that are no signs, and digits that aren't bytes below 128.
		{"\xff", -1, -1},
		{"6\xff5", -1, -1},
		{"65\x80", -1, -1},
		{"\xb6\xb5", -1, -1},
		{"\u0661", -1, -1},
		{"\uff11\uff12", -1, -1},
		{"1\u0301", -1, -1},
	} {
		if got := Value(x.digits, false); got != x.ten {
			t.Errorf("Value(%q, with ten): %d, want %d", x.digits, got, x.ten)
		}
		if got := Value(x.digits, true); got != x.sixteen {
			t.Errorf("Value(%q, with sixteen): %d, want %d", x.digits, got, x.sixteen)
		}
	}
}

func TestValueOfEachByte(t *testing.T) {
	for n := range 256 {
		c := string([]byte{byte(n)})
		ten := strings.Index("0123456789", c)
		sixteen := max(strings.Index("0123456789ABCDEF", c), strings.Index("0123456789abcdef", c))
		if got := Value(c, false); got != ten {
			t.Errorf("Value(%q, with ten): %d, want %d", c, got, ten)
		}
		if got := Value(c, true); got != sixteen {
			t.Errorf("Value(%q, with sixteen): %d, want %d", c, got, sixteen)
		}
		for _, digits := range []string{c + "1", "1" + c, "1" + c + "1"} {
			checkValue(t, digits)
		}
	}
}

func TestValueOfAllShortTexts(t *testing.T) {
	for n := range 3 {
		eachText(allBytes(), n, func(s string) { checkValue(t, s) })
	}
	for n := 3; n < 8; n++ {
		eachText("019aF", n, func(s string) { checkValue(t, s) })
	}
	for n := 3; n < 6; n++ {
		eachText("0/:9@AFG`afg;\xff", n, func(s string) { checkValue(t, s) })
	}
}

// howMany are lengths at which numbers grow beyond all integers, and beyond all floats, and much longer ones.
var howMany = []int{1, 2, 6, 7, 8, 16, 17, 19, 20, 21, 254, 255, 256, 257, 300, 307, 308, 309, 310, 311, 400, 1023, 1024, 1025, 5000, 100000}

func TestValueOfManyDigits(t *testing.T) {
	for _, n := range howMany {
		zeros := strings.Repeat("0", n)
		for _, digits := range []string{
			zeros, zeros + "65", zeros + "1114111", zeros + "1114112", zeros + "10ffff", zeros + "110000",
			"1" + zeros, "9" + zeros + "1", zeros + "1" + zeros, strings.Repeat("9", n), strings.Repeat("1", n), strings.Repeat("f", n), zeros + strings.Repeat("9", n),
		} {
			checkValue(t, digits)
		}
	}
}

func TestValueOfManyDigitsAndOneThatIsNone(t *testing.T) {
	for _, n := range howMany {
		for _, digit := range []string{"0", "9", "f"} {
			many := strings.Repeat(digit, n)
			for _, s := range []string{many + "g", "g" + many, many + "g" + many, many + ";", many + "\xff", many + " "} {
				for _, sixteen := range []bool{false, true} {
					if got := Value(s, sixteen); got != -1 {
						t.Errorf("Value(%d times %q, and what is no digit, %t): %d", n, digit, sixteen, got)
					}
				}
			}
		}
	}
}

func TestReadOrdinary(t *testing.T) {
	for _, x := range []struct {
		s    string
		at   int
		text string
		next int
	}{
		{"#65;", 0, "A", 4},
		{"#65", 0, "A", 3},
		{"#x41;", 0, "A", 5},
		{"#x41", 0, "A", 4},
		{"#X41;", 0, "A", 5},
		{"#xe9;", 0, "\u00e9", 5},
		{"#XE9;", 0, "\u00e9", 5},
		{"#x20aC;", 0, "\u20ac", 7},
		{"#128512;", 0, "\U0001f600", 8},
		{"a &#65; b", 3, "A", 7},
		{"&#65;&#66;", 6, "B", 10},
		{"#128;", 0, "\u20ac", 5},
		{"#x80;", 0, "\u20ac", 5},
		{"#129;", 0, "\u0081", 5},
		{"#x9F;", 0, "\u0178", 5},
		{"#13;", 0, "\r", 4},
		{"#38;", 0, "&", 4},
		// Numbers that are no sign's.
		{"#0;", 0, bad, 3},
		{"#0", 0, bad, 2},
		{"#x0;", 0, bad, 4},
		{"#xD800;", 0, bad, 7},
		{"#57343;", 0, bad, 7},
		{"#1114112;", 0, bad, 9},
		{"#x110000;", 0, bad, 9},
		{"#99999999999999999999;", 0, bad, 22},
		// A semicolon that isn't there, and two.
		{"#65 ;", 0, "A", 3},
		{"#65a;", 0, "A", 3},
		{"#65;;", 0, "A", 4},
		{"#x41;;", 0, "A", 5},
		{"#65,", 0, "A", 3},
		{"#65:", 0, "A", 3},
		{"#65<", 0, "A", 3},
		{"#65=", 0, "A", 3},
		{"#65\x00;", 0, "A", 3},
		{"#65&#66;", 0, "A", 3},
		{"#65#66;", 0, "A", 3},
		// Digits end where another byte stands, also one that would be a digit with sixteen.
		{"#65f;", 0, "A", 3},
		{"#65F", 0, "A", 3},
		{"#x41g;", 0, "A", 4},
		{"#x41x41;", 0, "A", 4},
		{"#6x5;", 0, "\x06", 2},
		{"#0x41;", 0, bad, 2},
		{"#x0x41;", 0, bad, 3},
		{"#65-", 0, "A", 3},
		{"#65_1;", 0, "A", 3},
		{"#65.0;", 0, "A", 3},
		{"#1e3;", 0, "\x01", 2},
		{"#xfg", 0, "\x0f", 3},
		// Bytes that are no signs, around it.
		{"#65\xff;", 0, "A", 3},
		{"\xff#65;\xff", 1, "A", 5},
		{"#x41\x80", 0, "A", 4},
		{"\u20ac#x41\u20ac", 3, "A", 7},
		{"#65\u0661;", 0, "A", 3},
		{"#65\uff1b", 0, "A", 3},
	} {
		text, next, ok := Read(x.s, x.at)
		if text != x.text || next != x.next || !ok {
			t.Errorf("Read(%q, %d): %q, %d, %t, want %q, %d", x.s, x.at, text, next, ok, x.text, x.next)
		}
	}
}

func TestReadOfNone(t *testing.T) {
	for _, x := range []struct {
		s  string
		at int
	}{
		{"", 0}, {"#", 0}, {"#;", 0}, {"##65;", 0}, {"# 65;", 0}, {"65;", 0}, {"x41;", 0}, {"&#65;", 0}, {" #65;", 0}, {"a", 0}, {";", 0}, {"#-65;", 0}, {"#+65;", 0}, {"#_65;", 0}, {"#.5;", 0}, {"#\n65;", 0}, {"#&65;", 0},
		// x and X with no digit behind.
		{"#x", 0}, {"#X", 0}, {"#x;", 0}, {"#X;", 0}, {"#xg", 0}, {"#Xg1;", 0}, {"#xx41;", 0}, {"#xX41;", 0}, {"#x 41;", 0}, {"#x-41;", 0}, {"#x#41;", 0},
		// A letter as a digit without an x.
		{"#a", 0}, {"#a;", 0}, {"#F1;", 0}, {"#f65;", 0}, {"#e9;", 0},
		// A place within a reference, and beside it.
		{"#65;", 1}, {"#65;", 2}, {"#65;", 3}, {"#x41;", 1}, {"a#65;", 0}, {"#65; ", 4},
		// A place that isn't there, or has nothing behind it.
		{"#65;", 4}, {"#65;", 5}, {"#65;", 9}, {"#65;", -1}, {"#65;", -4}, {"", 1}, {"", -1}, {"#65;", math.MaxInt}, {"#65;", math.MaxInt - 1}, {"#65;", math.MinInt}, {"", math.MaxInt}, {"", math.MinInt}, {"#65;", 1 << 32}, {"#65;", -1 << 32},
		// Bytes that are no signs, and what only looks like one of these.
		{"\xff", 0}, {"#\xff", 0}, {"#x\xff", 0}, {"#\x8065;", 0}, {"#\xb6\xb5;", 0}, {"\xa365;", 0}, {"#\u0661;", 0}, {"#\uff11;", 0}, {"\uff03\uff16", 0}, {"#\u00d741;", 0}, {"#\x0041;", 0}, {"#x\x0041;", 0},
	} {
		text, next, ok := Read(x.s, x.at)
		if text != "" || next != x.at || ok {
			t.Errorf("Read(%q, %d): %q, %d, %t", x.s, x.at, text, next, ok)
		}
	}
}

func TestReadBehindWhichEachByteStands(t *testing.T) {
	for n := range 256 {
		c := string([]byte{byte(n)})
		for _, s := range []string{c, "#" + c, "#x" + c, "#X" + c, "#6" + c, "#x4" + c, "#" + c + "5", "#" + c + "5;", "#x" + c + "1;", c + "65;", "#6;" + c, "#65" + c + ";"} {
			checkRead(t, s)
		}
	}
}

func TestReadAllShortTexts(t *testing.T) {
	for n := range 3 {
		eachText(allBytes(), n, func(s string) { checkReadAt(t, s, 0) })
	}
	for n := range 7 {
		eachText("#xX;5a\xff", n, func(s string) { checkReadAt(t, s, 0) })
	}
	for n := range 5 {
		eachText("#xX;&0aG\x80", n, func(s string) { checkRead(t, s) })
	}
}

// checkZerosAhead checks that so many zeros ahead of digits play no part.
func checkZerosAhead(t *testing.T, digits string, sixteen bool, zeros int) {
	t.Helper()
	ahead := strings.Repeat("0", zeros)
	if got, want := Value(ahead+digits, sixteen), Value(digits, sixteen); got != want {
		t.Errorf("Value(%d zeros and %q, %t): %d, want %d", zeros, digits, sixteen, got, want)
	}
	start := "#"
	if sixteen {
		start = "#x"
	}
	text, next, ok := Read(start+digits+";", 0)
	textAhead, nextAhead, okAhead := Read(start+ahead+digits+";", 0)
	if !ok || !okAhead || textAhead != text || nextAhead != next+zeros {
		t.Errorf("Read(%s, %d zeros and %q): %q, %d, %t, want %q, %d", start, zeros, digits, textAhead, nextAhead, okAhead, text, next+zeros)
	}
}

func TestZerosAheadPlayNoPart(t *testing.T) {
	for _, zeros := range howMany {
		for _, digits := range []string{"0", "1", "65", "128", "159", "160", "55296", "1114111", "1114112", "99999999", strings.Repeat("7", 400)} {
			checkZerosAhead(t, digits, false, zeros)
		}
		for _, digits := range []string{"0", "1", "41", "80", "9f", "a0", "D800", "10FFFF", "110000", "FFFFFFFF", strings.Repeat("f", 400)} {
			checkZerosAhead(t, digits, true, zeros)
		}
	}
}

func TestReadOfNumbersBeyondAllSigns(t *testing.T) {
	for _, n := range howMany {
		for _, start := range []string{"#", "#x", "#X"} {
			for _, end := range []string{"", ";", ";;", "g", " ", "\xff"} {
				s := start + "1114112" + strings.Repeat("3", n) + end
				want := len(s) - len(strings.TrimPrefix(end, ";"))
				text, next, ok := Read("&"+s, 1)
				if text != bad || next != 1+want || !ok {
					t.Errorf("Read(&%s1114112, 3 %d times, %q; 1): %q, %d, %t", start, n, end, text, next, ok)
				}
			}
		}
	}
}

// A text of many references is read to its end, each where the one ahead of it ended.
func TestReadOneBehindTheOther(t *testing.T) {
	s := strings.Repeat("#65;#x42#67;;", 5000)
	var told strings.Builder
	for at := 0; at < len(s); {
		text, next, ok := Read(s, at)
		if !ok {
			text, next = s[at:at+1], at+1
		}
		told.WriteString(text)
		at = next
	}
	if told.String() != strings.Repeat("ABC;", 5000) {
		t.Errorf("told %d bytes, beginning with %q", told.Len(), told.String()[:20])
	}
}

func FuzzNumber(f *testing.F) {
	for _, s := range []string{"", "#65;", "#x41", "#X10FFFF;;", "#0000000000000000000065", "#99999999999999999999;", "#x;", "#a", "&#65\xff"} {
		f.Add(s, 0, 65)
		f.Add(s, 1, 1114112)
	}
	f.Fuzz(func(t *testing.T, s string, at, n int) {
		if got, want := Fix(n), wantFix(n); got != want {
			t.Errorf("Fix(%d): %q, want %q", n, got, want)
		}
		checkValue(t, s)
		checkReadAt(t, s, at)
		checkReadAt(t, s, 0)
		checkReadAt(t, "#"+s, 0)
		checkReadAt(t, "#x"+s, 0)
	})
}
