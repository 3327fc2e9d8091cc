package lines

import (
	"strings"
	"testing"
)

// bad is the sign 65533 by its bytes, so that the tests hang on no other package's word for it.
const bad = "\xef\xbf\xbd"

// wantNormed is what the chapter asks of Norm, told in two steps: pairs first, then what is left of 13.
func wantNormed(s string) string {
	return strings.ReplaceAll(strings.ReplaceAll(s, "\r\n", "\n"), "\r", "\n")
}

// wantCleaned is what the chapter asks of Clean.
func wantCleaned(s string) string {
	return strings.ReplaceAll(s, "\x00", bad)
}

// check checks both promises of s.
func check(t *testing.T, s string) {
	t.Helper()
	normed, cleaned := Norm(s), Clean(s)
	if want := wantNormed(s); normed != want {
		t.Errorf("Norm(%q): %q, want %q", s, normed, want)
	}
	if want := wantCleaned(s); cleaned != want {
		t.Errorf("Clean(%q): %q, want %q", s, cleaned, want)
	}
	checkThatFollows(t, s, normed, cleaned)
}

// checkThatFollows checks P2.2 of s, and of what was made of it.
func checkThatFollows(t *testing.T, s, normed, cleaned string) {
	t.Helper()
	if strings.Contains(normed, "\r") {
		t.Errorf("Norm(%q): %q has a 13", s, normed)
	}
	if again := Norm(normed); again != normed {
		t.Errorf("Norm(%q), normed again: %q, not %q", s, again, normed)
	}
	if again := Clean(cleaned); again != cleaned {
		t.Errorf("Clean(%q), cleaned again: %q, not %q", s, again, cleaned)
	}
	both := Clean(normed)
	if again := Clean(Norm(both)); again != both {
		t.Errorf("%q, normed and cleaned, and both again: %q, not %q", s, again, both)
	}
}

// eachText hands all texts of n of those bytes to see.
func eachText(of string, n int, see func(string)) {
	if n == 0 {
		see("")
		return
	}
	eachText(of, n-1, func(ahead string) {
		for k := range len(of) {
			see(ahead + of[k:k+1])
		}
	})
}

// allBytes is each byte, once.
func allBytes() string {
	b := make([]byte, 256)
	for c := range b {
		b[c] = byte(c)
	}
	return string(b)
}

func TestNorm(t *testing.T) {
	for s, want := range map[string]string{
		"":                   "",
		"a":                  "a",
		"a b\tc\x0bd\x0ce":   "a b\tc\x0bd\x0ce",
		"a\r\nb\rc\n":        "a\nb\nc\n",
		"<p>a\r\n<p>b\r\n":   "<p>a\n<p>b\n",
		"\u20ac\r\U0001f600": "\u20ac\n\U0001f600",
		// 13 alone, and 10 alone.
		"\r":     "\n",
		"\n":     "\n",
		"a\rb":   "a\nb",
		"a\nb":   "a\nb",
		"\ra":    "\na",
		"\na":    "\na",
		"\r\r":   "\n\n",
		"\n\n":   "\n\n",
		"\r\r\r": "\n\n\n",
		// Both together, and side by side in other ways.
		"\r\n":         "\n",
		"\r\na":        "\na",
		"\r\r\n":       "\n\n",
		"\r\n\r\n":     "\n\n",
		"\r\n\n":       "\n\n",
		"\r\n\r":       "\n\n",
		"\n\r":         "\n\n",
		"\n\r\n":       "\n\n",
		"\n\r\r\n\r\n": "\n\n\n\n",
		"\ra\n":        "\na\n",
		// 13 at the end.
		"a\r":     "a\n",
		"a\n\r":   "a\n\n",
		"a\r\n\r": "a\n\n",
		"a\r\r":   "a\n\n",
		// The byte 0 is none of this call's.
		"\x00":       "\x00",
		"\r\x00\n":   "\n\x00\n",
		"\x00\r\n":   "\x00\n",
		"a\x00b\r\n": "a\x00b\n",
		// Bytes that look like these two, but for some bits.
		"\x8d\x8a":     "\x8d\x8a",
		"\u010d\u010a": "\u010d\u010a",
		"\u2028\u0085": "\u2028\u0085",
		"\\r\\n":       "\\r\\n",
		"&#13;&#10;":   "&#13;&#10;",
	} {
		if got := Norm(s); got != want {
			t.Errorf("Norm(%q): %q, want %q", s, got, want)
		}
	}
}

func TestClean(t *testing.T) {
	for s, want := range map[string]string{
		"":      "",
		"a":     "a",
		"a b\t": "a b\t",
		bad:     bad,
		// The byte 0 alone, at the beginning, within, at the end, over and over.
		"\x00":           bad,
		"\x00a":          bad + "a",
		"a\x00b":         "a" + bad + "b",
		"a\x00":          "a" + bad,
		"\x00\x00":       bad + bad,
		"\x00a\x00\x00b": bad + "a" + bad + bad + "b",
		bad + "\x00":     bad + bad,
		// Ends of lines are none of this call's.
		"\r":           "\r",
		"\r\n":         "\r\n",
		"a\r\x00\nb\r": "a\r" + bad + "\nb\r",
		// What looks like the byte 0.
		"0":        "0",
		"\x01\x80": "\x01\x80",
		"\u0100":   "\u0100",
		"&#0;":     "&#0;",
		"\u2400":   "\u2400",
	} {
		if got := Clean(s); got != want {
			t.Errorf("Clean(%q): %q, want %q", s, got, want)
		}
	}
}

func TestBytesThatAreNoSigns(t *testing.T) {
	for _, broken := range []string{"\xff", "\x80", "\xc0\x80", "\xe2\x82", "\xed\xa0\x80", "\xf0\x9f\x98", "\xef\xbf", "\xbd", "\xfe\xff"} {
		for s, want := range map[string]string{
			broken:                   broken,
			broken + "\r":            broken + "\n",
			"\r" + broken + "\n":     "\n" + broken + "\n",
			broken + "\r\n" + broken: broken + "\n" + broken,
		} {
			if got := Norm(s); got != want {
				t.Errorf("Norm(%q): %q, want %q", s, got, want)
			}
		}
		for s, want := range map[string]string{
			broken:                   broken,
			"\x00" + broken:          bad + broken,
			broken + "\x00":          broken + bad,
			broken + "\x00" + broken: broken + bad + broken,
		} {
			if got := Clean(s); got != want {
				t.Errorf("Clean(%q): %q, want %q", s, got, want)
			}
		}
	}
}

func TestAllShortTexts(t *testing.T) {
	for n := range 3 {
		eachText(allBytes(), n, func(s string) { check(t, s) })
	}
	for n := 3; n < 8; n++ {
		eachText("\x00\n\ra\xff", n, func(s string) { check(t, s) })
	}
}

func TestLongTexts(t *testing.T) {
	for _, s := range []string{"\r", "\n", "\r\n", "\r\r\n", "\n\r", "\x00", "a", "\xff", "\x00\r\na", "a line of a text\r\n"} {
		check(t, strings.Repeat(s, 50000))
	}
	if got := Norm(strings.Repeat("\r\n", 50000)); len(got) != 50000 {
		t.Errorf("50000 times 13 10: %d bytes", len(got))
	}
	if got := Clean(strings.Repeat("\x00", 50000)); len(got) != 150000 {
		t.Errorf("50000 times 0: %d bytes", len(got))
	}
}

func FuzzLines(f *testing.F) {
	for _, s := range []string{"", "a\r\nb\rc\nd", "\r\r\n\n", "\n\r", "\x00a\x00", "\xff\r", bad + "\x00\r"} {
		f.Add(s)
	}
	f.Fuzz(func(t *testing.T, s string) { check(t, s) })
}
