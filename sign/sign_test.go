package sign

import (
	"math"
	"strings"
	"testing"
)

// The kinds, put down byte by byte, so that the tests share no rule with the program.
const (
	spaces = "\x09\x0a\x0c\x20"
	larges = "ABCDEFGHIJKLMNOPQRSTUVWXYZ"
	smalls = "abcdefghijklmnopqrstuvwxyz"
	digits = "0123456789"
)

// wantHex is what the chapter asks of Hex.
func wantHex(c byte) int {
	return max(strings.IndexByte("0123456789ABCDEF", c), strings.IndexByte("0123456789abcdef", c))
}

// wantLower is what the chapter asks of Lower.
func wantLower(s string) string {
	b := []byte(s)
	for k, c := range b {
		if n := strings.IndexByte(larges, c); n >= 0 {
			b[k] = smalls[n]
		}
	}
	return string(b)
}

// wantBegins is what the chapter asks of Begins: all beginnings of what stands there are held against low.
func wantBegins(s string, at int, low string) bool {
	if at < 0 || at > len(s) {
		return false
	}
	for end := at; end <= len(s); end++ {
		if wantLower(s[at:end]) == low {
			return true
		}
	}
	return false
}

// eachText hands all texts of n of those bytes to see.
func eachText(of string, n int, see func(string)) {
	if n == 0 {
		see("")
		return
	}
	eachText(of, n-1, func(ahead string) {
		for k := range len(of) {
			see(ahead + of[k:k+1])
		}
	})
}

// allBytes is each byte, once.
func allBytes() string {
	b := make([]byte, 256)
	for c := range b {
		b[c] = byte(c)
	}
	return string(b)
}

func TestKindsOfEachByte(t *testing.T) {
	for _, kind := range []struct {
		name string
		tell func(byte) bool
		of   string
	}{
		{"Space", Space, spaces},
		{"Letter", Letter, larges + smalls},
		{"Digit", Digit, digits},
		{"Word", Word, larges + smalls + digits},
	} {
		for n := range 256 {
			c := byte(n)
			want := strings.IndexByte(kind.of, c) >= 0
			if got := kind.tell(c); got != want {
				t.Errorf("%s(%d): %t", kind.name, c, got)
			}
		}
	}
}

func TestWordIsLetterOrDigit(t *testing.T) {
	for n := range 256 {
		c := byte(n)
		if Word(c) != (Letter(c) || Digit(c)) {
			t.Errorf("Word(%d): %t", c, Word(c))
		}
		if Letter(c) && Digit(c) || Space(c) && Word(c) {
			t.Errorf("%d is of two kinds", c)
		}
	}
}

func TestBytesBesideTheKinds(t *testing.T) {
	for _, c := range []byte{0, 8, 11, 13, 14, 31, 33, 127, 133, 160, 255} {
		if Space(c) {
			t.Errorf("Space(%d)", c)
		}
	}
	for _, c := range []byte("@[`{/:-_&<>\x00\x7f\xc1\xda\xe1\xfa\xaa\xb5\xba\xff") {
		if Letter(c) || Digit(c) || Word(c) {
			t.Errorf("%d: a letter %t, a digit %t, a word %t", c, Letter(c), Digit(c), Word(c))
		}
	}
	for _, c := range []byte("@G`g/:[{Zz\x00\x10\x1a\xb0\xb9\xc1\xe1\xff") {
		if Hex(c) != -1 {
			t.Errorf("Hex(%d): %d", c, Hex(c))
		}
	}
}

func TestHexOfEachByte(t *testing.T) {
	for n := range 256 {
		c := byte(n)
		if got, want := Hex(c), wantHex(c); got != want {
			t.Errorf("Hex(%d): %d, want %d", c, got, want)
		}
	}
	for c, want := range map[byte]int{'0': 0, '9': 9, 'a': 10, 'b': 11, 'f': 15, 'A': 10, 'F': 15} {
		if got := Hex(c); got != want {
			t.Errorf("Hex(%q): %d, want %d", c, got, want)
		}
	}
}

func TestLower(t *testing.T) {
	for s, want := range map[string]string{
		"":               "",
		"abc":            "abc",
		"ABC":            "abc",
		"aBcXyZ":         "abcxyz",
		larges:           smalls,
		smalls:           smalls,
		digits + spaces:  digits + spaces,
		"!DOCTYPE html":  "!doctype html",
		"<SCRIPT\r\n>":   "<script\r\n>",
		"A\x00B":         "a\x00b",
		"@AZ[`az{":       "@az[`az{",
		" A-Z_0 ":        " a-z_0 ",
		"\x80A\xffZ\xc1": "\x80a\xffz\xc1",
		// Signs of several bytes stay, though there are small ones of them, even where their small ones are bytes below 128.
		"\u00c4\u00e4\u0391\u0416": "\u00c4\u00e4\u0391\u0416",
		"\u212a\u0130K":            "\u212a\u0130k",
		"\uff21\U00010400A":        "\uff21\U00010400a",
	} {
		if got := Lower(s); got != want {
			t.Errorf("Lower(%q): %q, want %q", s, got, want)
		}
	}
}

// checkLower checks Lower of s, and what follows of it (P3.3).
func checkLower(t *testing.T, s string) {
	t.Helper()
	got := Lower(s)
	if want := wantLower(s); got != want {
		t.Errorf("Lower(%q): %q, want %q", s, got, want)
	}
	if again := Lower(got); again != got {
		t.Errorf("Lower(%q), lowered again: %q, not %q", s, again, got)
	}
}

func TestLowerOfAllShortTexts(t *testing.T) {
	for n := range 3 {
		eachText(allBytes(), n, func(s string) { checkLower(t, s) })
	}
	for n := 3; n < 6; n++ {
		eachText("@AZ[az\xff", n, func(s string) { checkLower(t, s) })
	}
	checkLower(t, strings.Repeat(allBytes(), 1000))
}

func TestBegins(t *testing.T) {
	for _, x := range []struct {
		s    string
		at   int
		low  string
		want bool
	}{
		{"aBC", 1, "bc", true},
		{"aBC", 0, "abc", true},
		{"aBC", 0, "a", true},
		{"aBC", 0, "b", false},
		{"abc", 1, "bc", true},
		{"ABC", 2, "c", true},
		{"</ScRiPt>", 2, "script", true},
		{"</ScRiPt>", 1, "script", false},
		{"a1-_b", 1, "1-_", true},
		// A place that isn't there.
		{"abc", -1, "", false},
		{"abc", -1, "a", false},
		{"abc", -3, "abc", false},
		{"abc", 4, "", false},
		{"abc", 4, "a", false},
		{"", -1, "", false},
		{"", 1, "", false},
		{"abc", math.MaxInt, "", false},
		{"abc", math.MaxInt, "abc", false},
		{"abc", math.MaxInt - 2, "abc", false},
		{"abc", math.MinInt, "", false},
		{"abc", math.MinInt, "abc", false},
		{"abc", 1 << 32, "a", false},
		// The place behind the last byte.
		{"abc", 3, "", true},
		{"abc", 3, "a", false},
		{"abc", 3, "\x00", false},
		{"", 0, "", true},
		{"", 0, "a", false},
		// An empty low.
		{"abc", 0, "", true},
		{"abc", 1, "", true},
		// A low that is longer than what is left, and one that is just as long.
		{"abc", 0, "abcd", false},
		{"abc", 1, "bcd", false},
		{"abc", 2, "cc", false},
		{"abc", 2, "c", true},
		// Of a low with a large letter there is none.
		{"aBC", 1, "BC", false},
		{"aBC", 1, "Bc", false},
		{"aBC", 1, "bC", false},
		{"abc", 1, "BC", false},
		{"A", 0, "A", false},
		{"Z", 0, "Z", false},
		// One byte that is another one: the first, one within, the last.
		{"abcd", 0, "xbcd", false},
		{"abcd", 0, "abxd", false},
		{"abcd", 0, "abcx", false},
		// Bytes beside the letters are just themselves.
		{"@[`{", 0, "@[`{", true},
		{"@", 0, "`", false},
		{"`", 0, "@", false},
		{"[", 0, "{", false},
		{"{", 0, "[", false},
		{"\x0d", 0, "-", false},
		{"0", 0, "P", false},
		// Bytes that are no signs, and signs of several bytes.
		{"\xffA\x80", 0, "\xffa\x80", true},
		{"\xff", 0, "\xfe", false},
		{"\xc1", 0, "\xe1", false},
		{"\xe2\x82", 0, "\xe2\x82\xac", false},
		{"\u00c4A", 0, "\u00c4a", true},
		{"\u00c4", 0, "\u00e4", false},
		{"\u00c4A", 1, "\x84a", true},
		{"\u212a", 0, "k", false},
		{"\u017f", 0, "s", false},
		{"a\x00B", 0, "a\x00b", true},
	} {
		if got := Begins(x.s, x.at, x.low); got != x.want {
			t.Errorf("Begins(%q, %d, %q): %t", x.s, x.at, x.low, got)
		}
	}
}

// checkBegins checks Begins at each place of s, and beside them.
func checkBegins(t *testing.T, s, low string) {
	t.Helper()
	for at := -2; at <= len(s)+2; at++ {
		if got, want := Begins(s, at, low), wantBegins(s, at, low); got != want {
			t.Errorf("Begins(%q, %d, %q): %t", s, at, low, got)
		}
	}
}

func TestBeginsOfAllShortTexts(t *testing.T) {
	for n := range 4 {
		eachText("AaZ[\xff", n, func(s string) {
			for k := range 4 {
				eachText("AaZ[z{\xff", k, func(low string) { checkBegins(t, s, low) })
			}
		})
	}
	eachText(allBytes(), 1, func(s string) {
		eachText(allBytes(), 1, func(low string) { checkBegins(t, s, low) })
	})
}

func TestBeginsInLongTexts(t *testing.T) {
	s := strings.Repeat("aB", 50000)
	low := strings.Repeat("ab", 40000)
	for at, want := range map[int]bool{0: true, 1: false, 20000: true, 20001: false, 20002: false, 100000: false} {
		if got := Begins(s, at, low); got != want {
			t.Errorf("Begins(aB 50000 times, %d, ab 40000 times): %t", at, got)
		}
	}
}

func FuzzSign(f *testing.F) {
	for _, s := range []string{"", "aBC", "@AZ[`az{", "\xffA\x80", "\u00c4\u212a"} {
		f.Add(s, 1, "bc")
		f.Add(s, 0, wantLower(s))
	}
	f.Fuzz(func(t *testing.T, s string, at int, low string) {
		checkLower(t, s)
		if got, want := Begins(s, at, low), wantBegins(s, at, low); got != want {
			t.Errorf("Begins(%q, %d, %q): %t", s, at, low, got)
		}
	})
}
