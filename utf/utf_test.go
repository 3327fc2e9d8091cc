package utf

import (
	"bytes"
	"math"
	"strings"
	"testing"

	"flail/api"
)

// signBytes is what the chapter's word 'A sign's bytes' says of a number, put down without the library's own reading of UTF-8; nil where there is no sign.
func signBytes(n int) []byte {
	low := func(shift int) byte { return byte(128 + n>>shift%64) }
	switch {
	case n < 0 || n > 1114111 || n >= 55296 && n <= 57343:
		return nil
	case n <= 127:
		return []byte{byte(n)}
	case n <= 2047:
		return []byte{byte(192 + n>>6), low(0)}
	case n <= 65535:
		return []byte{byte(224 + n>>12), low(6), low(0)}
	}
	return []byte{byte(240 + n>>18), low(12), low(6), low(0)}
}

// teller tells bytes by the chapter's words alone: from lists of all signs' bytes and of all that they begin with.
type teller struct {
	whole, begin map[string]bool
}

func newTeller() teller {
	t := teller{map[string]bool{}, map[string]bool{}}
	for n := 0; n <= 1114111; n++ {
		b := string(signBytes(n))
		if b == "" {
			continue
		}
		t.whole[b] = true
		for k := 1; k < len(b); k++ {
			t.begin[b[:k]] = true
		}
	}
	return t
}

// signAt is how many bytes the sign has that stands at the start of b; 0, if none does.
func (t teller) signAt(b []byte) int {
	for k := 1; k <= min(4, len(b)); k++ {
		if t.whole[string(b[:k])] {
			return k
		}
	}
	return 0
}

func (t teller) beginning(b []byte) int {
	for k := min(4, len(b)); k > 1; k-- {
		if t.begin[string(b[:k])] {
			return k
		}
	}
	return 1
}

// tell is what Decode of b has to be, and whether Right of b has to be.
func (t teller) tell(b []byte) (text string, right bool) {
	right = true
	rest := b
	var out []byte
	if len(b) >= 3 && b[0] == 239 && b[1] == 187 && b[2] == 191 {
		rest = b[3:]
	}
	for len(rest) > 0 {
		n := t.signAt(rest)
		if n > 0 {
			out = append(out, rest[:n]...)
		} else {
			right = false
			n = t.beginning(rest)
			out = append(out, 239, 191, 189)
		}
		rest = rest[n:]
	}
	return string(out), right
}

func TestSignEdges(t *testing.T) {
	for n, want := range map[int]string{
		0:       "\x00",
		65:      "A",
		127:     "\x7f",
		128:     "\xc2\x80",
		2047:    "\xdf\xbf",
		2048:    "\xe0\xa0\x80",
		8364:    "\xe2\x82\xac",
		55295:   "\xed\x9f\xbf",
		57344:   "\xee\x80\x80",
		65279:   "\xef\xbb\xbf",
		65533:   api.Bad,
		65535:   "\xef\xbf\xbf",
		65536:   "\xf0\x90\x80\x80",
		1114111: "\xf4\x8f\xbf\xbf",
	} {
		if got := Sign(n); got != want {
			t.Errorf("Sign(%d): % x, want % x", n, got, want)
		}
	}
}

func TestSignOfNoSign(t *testing.T) {
	for _, n := range []int{-1, -65, -128, 55296, 56319, 56320, 57343, 1114112, 1 << 21, 1 << 31, 1<<32 + 65, -1<<32 + 65, 1<<32 - 1, 1<<40 + 8364, math.MaxInt32, math.MinInt32, math.MaxInt64, math.MinInt64} {
		if got := Sign(n); got != "\xef\xbf\xbd" {
			t.Errorf("Sign(%d): % x", n, got)
		}
	}
}

func TestSignOfAllNumbers(t *testing.T) {
	for n := -70000; n < 1200000; n++ {
		want := string(signBytes(n))
		if want == "" {
			want = api.Bad
		}
		if got := Sign(n); got != want {
			t.Fatalf("Sign(%d): % x, want % x", n, got, want)
		}
	}
}

func TestDecodeOrdinary(t *testing.T) {
	bad := api.Bad
	for s, want := range map[string]string{
		"":                       "",
		"A":                      "A",
		"<p>a &amp; b\r\n":       "<p>a &amp; b\r\n",
		"\x00A\x00":              "\x00A\x00",
		"A\xffB":                 "A" + bad + "B",
		"\u00e9\u20ac\U0001f600": "\u00e9\u20ac\U0001f600",
		bad:                      bad,
		bad + "\xff" + bad:       bad + bad + bad,
	} {
		if got := Decode([]byte(s)); got != want {
			t.Errorf("Decode(% x): % x, want % x", s, got, want)
		}
	}
}

func TestDecodeMark(t *testing.T) {
	const mark = "\xef\xbb\xbf"
	for s, want := range map[string]string{
		mark:                     "",
		mark + "A":               "A",
		mark + mark:              mark,
		mark + mark + mark + "A": mark + mark + "A",
		"A" + mark:               "A" + mark,
		"A" + mark + "B":         "A" + mark + "B",
		"\x00" + mark:            "\x00" + mark,
		"\xff" + mark:            api.Bad + mark,
		"\xef" + mark:            api.Bad + mark,
		mark + "\xef\xbb":        api.Bad,
		mark + "\xbf":            api.Bad,
		"\xef\xbb":               api.Bad,
		"\xef":                   api.Bad,
		"\xef\xbbA":              api.Bad + "A",
		"\xef\xbb\xbe":           "\ufefe",
	} {
		if got := Decode([]byte(s)); got != want {
			t.Errorf("Decode(% x): % x, want % x", s, got, want)
		}
	}
}

// badTold tells whether s is api.Bad, that many times.
func badTold(s string, times int) bool {
	return s == strings.Repeat("\xef\xbf\xbd", times)
}

func TestDecodeBeginnings(t *testing.T) {
	for s, times := range map[string]int{
		// Cut short: one for all that stands there.
		"\xc3": 1, "\xe2": 1, "\xe2\x82": 1, "\xe0\xa0": 1, "\xed\x9f": 1, "\xf0": 1, "\xf0\x9f": 1, "\xf0\x9f\x98": 1, "\xf4\x8f\xbf": 1,
		// Cut short, over and over.
		"\xc3\xc3": 2, "\xe2\x82\xe2\x82": 2, "\xf0\x9f\x98\xf0\x9f": 2, "\xe2\xe2\x82": 2,
		// Bytes that begin nothing: one for each.
		"\x80": 1, "\xbf\x80": 2, "\xc0": 1, "\xc0\xaf": 2, "\xc1\xbf": 2, "\xf5\x80": 2, "\xf8\x88\x80\x80\x80": 5, "\xfe\xff": 2,
		// A first byte that begins a sign, but not with the second one there.
		"\xe0\x80": 2, "\xe0\x9f\xbf": 3, "\xed\xa0\x80": 3, "\xed\xbf\xbf": 3, "\xf0\x80\x80": 3, "\xf0\x8f\xbf\xbf": 4, "\xf4\x90": 2, "\xf4\x90\x80\x80": 4,
		// A sign's half, and bytes that go on behind none.
		"\xed\xa0\x80\xed\xb0\x80": 6, "\xf0\x9f\x98\xc3": 2,
	} {
		if got := Decode([]byte(s)); !badTold(got, times) {
			t.Errorf("Decode(% x): % x, want api.Bad, %d times", s, got, times)
		}
		if got := Decode([]byte("A" + s + "B")); got != "A"+strings.Repeat(api.Bad, times)+"B" {
			t.Errorf("Decode(A % x B): % x", s, got)
		}
	}
}

// edgeBytes are those where kinds of bytes begin and end.
func edgeBytes() []byte {
	return []byte{0, 65, 127, 128, 143, 144, 159, 160, 187, 189, 191, 192, 193, 194, 223, 224, 225, 236, 237, 238, 239, 240, 241, 243, 244, 245, 248, 255}
}

// eachList hands all lists of n of those bytes to see.
func eachList(of []byte, n int, see func([]byte)) {
	list := make([]byte, n)
	var fill func(int)
	fill = func(k int) {
		if k == n {
			see(list)
			return
		}
		for _, c := range of {
			list[k] = c
			fill(k + 1)
		}
	}
	fill(0)
}

func TestAllShortLists(t *testing.T) {
	told := newTeller()
	all := make([]byte, 256)
	for c := range all {
		all[c] = byte(c)
	}
	few := []byte{65, 128, 144, 160, 187, 191, 224, 237, 239, 240, 244}
	check := func(b []byte) {
		text, right := told.tell(b)
		if got := Decode(b); got != text {
			t.Fatalf("Decode(% x): % x, want % x", b, got, text)
		}
		if got := Right(string(b)); got != right {
			t.Fatalf("Right(% x): %t", b, got)
		}
	}
	for n := range 3 {
		eachList(all, n, check)
	}
	for n := 3; n < 5; n++ {
		eachList(edgeBytes(), n, check)
	}
	eachList(few, 5, check)
}

func TestRight(t *testing.T) {
	for s, want := range map[string]bool{
		"":                         true,
		"a\u20ac\U0001f600":        true,
		api.Bad:                    true,
		api.Bad + api.Bad:          true,
		"\xef\xbb\xbf":             true,
		"\x00":                     true,
		"\x7f\u0080\u07ff\u0800":   true,
		"\ud7ff\ue000\U0010ffff":   true,
		"\xff":                     false,
		"a\xff":                    false,
		"\xffa":                    false,
		"\xe2\x82":                 false,
		"a\xe2\x82a":               false,
		"\xed\xa0\x80":             false,
		"\xed\xbf\xbf":             false,
		"\xc0\x80":                 false,
		"\xf4\x90\x80\x80":         false,
		api.Bad + "\xef\xbf":       false,
		"\xef\xbf" + api.Bad:       false,
		"\x80" + api.Bad:           false,
		"\U0001f600\xf0\x9f\x98":   false,
		strings.Repeat("a", 100):   true,
		"\xef\xbb\xbf\xef\xbb\xbe": true,
	} {
		if got := Right(s); got != want {
			t.Errorf("Right(% x): %t", s, got)
		}
	}
}

func TestAllSignsStay(t *testing.T) {
	var all []byte
	for n := 0; n <= 1114111; n++ {
		all = append(all, signBytes(n)...)
	}
	if !Right(string(all)) {
		t.Error("all signs: not Right")
	}
	if Decode(all) != string(all) {
		t.Error("all signs: not told as they are")
	}
}

func TestDecodeLeavesWhatItIsHanded(t *testing.T) {
	for _, s := range []string{"abc", "\xef\xbb\xbfabc", "a\xffb"} {
		b := []byte(s)
		got := Decode(b)
		if string(b) != s {
			t.Errorf("Decode(% x) changed it: % x", s, b)
		}
		want := strings.Clone(got)
		for k := range b {
			b[k] = 'X'
		}
		if got != want {
			t.Errorf("Decode(% x) hangs on it: % x", s, got)
		}
	}
	if Decode(nil) != "" || Decode([]byte{}) != "" {
		t.Error("of no bytes: some text")
	}
}

// checkThatFollows checks P1.3 of b.
func checkThatFollows(t *testing.T, b []byte) {
	text := Decode(b)
	if !Right(text) {
		t.Errorf("Decode(% x): % x is not Right", b, text)
	}
	if len(text) > 3*len(b) {
		t.Errorf("Decode(% x): %d bytes of %d", b, len(text), len(b))
	}
	if Right(string(b)) && !bytes.HasPrefix(b, []byte{239, 187, 191}) && text != string(b) {
		t.Errorf("Decode(% x), which is Right: % x", b, text)
	}
}

func TestWhatFollows(t *testing.T) {
	for n := range 4 {
		eachList(edgeBytes(), n, func(b []byte) { checkThatFollows(t, b) })
	}
	long := bytes.Repeat([]byte{255}, 100000)
	if !badTold(Decode(long), len(long)) {
		t.Error("100000 bytes that begin nothing: not api.Bad for each")
	}
	checkThatFollows(t, long)
	checkThatFollows(t, bytes.Repeat([]byte("\xf0\x9f\x98"), 1000))
}

func FuzzDecode(f *testing.F) {
	for _, s := range []string{"", "A\xffB", "\xe2\x82", "\xe0\x80", "\xef\xbb\xbf\xef\xbb\xbf", "\xf4\x90\x80\x80", "\u20ac\U0001f600"} {
		f.Add([]byte(s))
	}
	told := newTeller()
	f.Fuzz(func(t *testing.T, b []byte) {
		checkThatFollows(t, b)
		text, right := told.tell(b)
		if got := Decode(b); got != text {
			t.Errorf("Decode(% x): % x, want % x", b, got, text)
		}
		if got := Right(string(b)); got != right {
			t.Errorf("Right(% x): %t", b, got)
		}
	})
}
