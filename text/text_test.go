package text

import (
	"math"
	"math/big"
	"regexp"
	"slices"
	"strings"
	"testing"

	"flail/api"
	"flail/comment"
	"flail/doctype"
	"flail/ref"
	"flail/tag"
)

// letters is each letter, put down one by one, so that the tests share no rule with the program.
const letters = "abcdefghijklmnopqrstuvwxyzABCDEFGHIJKLMNOPQRSTUVWXYZ"

// bad is the sign 65533 by its bytes, so that the tests hang on no other package's word for it.
const bad = "\xef\xbf\xbd"

// short is s, or so much of it as a failing test may tell.
func short(s string) string {
	if len(s) > 100 {
		return s[:100] + ".."
	}
	return s
}

// inside is at, or the place of s that it counts as.
func inside(s string, at int) int {
	switch {
	case at < 0:
		return 0
	case at > len(s):
		return len(s)
	}
	return at
}

// farAway is places that no text has.
func farAway() []int {
	return []int{math.MinInt, math.MinInt + 1, math.MinInt + 2, math.MinInt32, -1 << 32, -1<<32 + 1, -33, 1 << 31, 1 << 32, 1<<32 + 1, math.MaxInt - 9, math.MaxInt - 8, math.MaxInt - 7, math.MaxInt - 3, math.MaxInt - 2, math.MaxInt - 1, math.MaxInt}
}

// eachText hands all texts of n of those parts to see.
func eachText(of []string, n int, see func(string)) {
	if n == 0 {
		see("")
		return
	}
	eachText(of, n-1, func(ahead string) {
		for _, part := range of {
			see(ahead + part)
		}
	})
}

// eachByte is each byte, as a text of its own.
func eachByte() []string {
	var told []string
	for c := range 256 {
		told = append(told, string([]byte{byte(c)}))
	}
	return told
}

// eachCase is a word in each mixture of large letters and small ones.
func eachCase(word string) []string {
	told := []string{""}
	for _, c := range strings.Split(word, "") {
		var longer []string
		for _, ahead := range told {
			longer = append(longer, ahead+strings.ToLower(c), ahead+strings.ToUpper(c))
		}
		told = longer
	}
	return told
}

// steps is a machine that takes a text byte by byte, and never goes back: what it knows of the bytes that it took is how far markup has come that may begin.
type steps struct {
	mark string
}

// take takes a byte, and tells whether markup began; the mark is what of it stood ahead of that byte.
func (m *steps) take(c byte) bool {
	switch {
	case m.mark == "</", m.mark == "<" && (c == '!' || c == '?' || strings.IndexByte(letters, c) >= 0):
		return true
	case m.mark == "<" && c == '/':
		m.mark = "</"
	case c == '<':
		m.mark = "<"
	default:
		m.mark = ""
	}
	return false
}

// wantNext is what the chapter asks of Next.
func wantNext(s string, at int) int {
	var m steps
	for place := inside(s, at); place < len(s); place++ {
		if m.take(s[place]) {
			return place - len(m.mark)
		}
	}
	return len(s)
}

// wantBegins is what the chapter asks of Begins.
func wantBegins(s string, at int) bool {
	if at < 0 || at >= len(s) || s[at] != '<' {
		return false
	}
	var m steps
	for k := range min(3, len(s)-at) {
		if m.take(s[at+k]) {
			// It may be that of another bracket, behind this one.
			return len(m.mark) == k
		}
	}
	return false
}

// inWords is all that may begin, as one expression.
func inWords() *regexp.Regexp {
	return regexp.MustCompile(`(?s)<[a-zA-Z]|</[a-zA-Z]|<!|<\?|</[^a-zA-Z>]|</>`)
}

// checkBegins checks Begins at one place of s, also by the chapters of what may begin.
func checkBegins(t *testing.T, s string, at int) {
	t.Helper()
	got, want := Begins(s, at), wantBegins(s, at)
	if got != want {
		t.Errorf("Begins(%q, %d): %t", short(s), at, got)
	}
	kinds := 0
	for _, begins := range []bool{tag.Begins(s, at), comment.Begins(s, at), doctype.Begins(s, at), at >= 0 && at < len(s) && strings.HasPrefix(s[at:], "</>")} {
		if begins {
			kinds++
		}
	}
	if kinds > 1 || got != (kinds == 1) {
		t.Errorf("Begins(%q, %d): %t, though %d of the four do", short(s), at, got, kinds)
	}
}

// checkAt checks all calls at one place of s.
func checkAt(t *testing.T, s string, at int) {
	t.Helper()
	checkBegins(t, s, at)
	want := wantNext(s, at)
	if next := Next(s, at); next != want {
		t.Errorf("Next(%q, %d): %d, want %d", short(s), at, next, want)
	}
	wantText := ref.Decode(s[inside(s, at):want], false)
	if text, next := Read(s, at); text != wantText || next != want {
		t.Errorf("Read(%q, %d): %q, %d, want %q, %d", short(s), at, short(text), next, short(wantText), want)
	}
}

// checkWords checks Next at one place of s against the chapter's words.
func checkWords(t *testing.T, words *regexp.Regexp, s string, at int) {
	t.Helper()
	from, want := inside(s, at), len(s)
	if m := words.FindStringIndex(s[from:]); m != nil {
		want = from + m[0]
	}
	if next := Next(s, at); next != want {
		t.Errorf("Next(%q, %d): %d, in words %d", short(s), at, next, want)
	}
}

// checkAround checks that what stands ahead of a place plays no part, and that what stands behind the text doesn't, either, as long as markup begins there.
func checkAround(t *testing.T, s string, at int) {
	t.Helper()
	text, next := Read(s, at)
	from := inside(s, at)
	if next < from || next > len(s) {
		t.Fatalf("Read(%q, %d): %q, %d", short(s), at, short(text), next)
	}
	for place := from; place < next; place++ {
		if Begins(s, place) {
			t.Errorf("Read(%q, %d): %q, %d, though markup begins at %d", short(s), at, short(text), next, place)
		}
	}
	if next < len(s) && !Begins(s, next) {
		t.Errorf("Read(%q, %d): %q, %d, where none begins", short(s), at, short(text), next)
	}
	if alone, n := Read(s[from:], 0); alone != text || n+from != next {
		t.Errorf("Read(%q, %d): %q, %d, of what stands there alone %q, %d", short(s), at, short(text), next, short(alone), n+from)
	}
	if strings.HasSuffix(s[from:next], "</") {
		// These are text at the text's end alone.
		return
	}
	for _, behind := range []string{"<a", "</z>", "</>", "<!", "<?", "</ ", "<!doctype"} {
		if again, n := Read(s[:next]+behind, from); again != text || n != next {
			t.Errorf("Read(%q, %d): %q, %d, of it and %s %q, %d", short(s), at, short(text), next, behind, short(again), n)
		}
	}
}

// hasTag tells whether a bracket stands there with a letter behind it.
func hasTag(s string) bool {
	for _, behind := range strings.Split(s, "<")[1:] {
		if behind != "" && strings.Contains(letters, behind[:1]) {
			return true
		}
	}
	return false
}

// checkFollows checks what follows of Read (P14.3): no bracket with a letter behind it, unless a reference told it.
func checkFollows(t *testing.T, s string, at int) {
	t.Helper()
	text, next := Read(s, at)
	from := inside(s, at)
	if hasTag(s[from:next]) {
		t.Errorf("Read(%q, %d): %q, %d, with a tag within", short(s), at, short(text), next)
	}
	if !strings.Contains(s[from:next], "&") && text != s[from:next] {
		t.Errorf("Read(%q, %d): %q, %d, though it has no ampersand", short(s), at, short(text), next)
	}
	if len(text) > 3*(next-from) {
		t.Errorf("Read(%q, %d): %q, %d, which is longer than it may be", short(s), at, short(text), next)
	}
}

// check checks all calls at each place of s, and beside them.
func check(t *testing.T, s string) {
	t.Helper()
	words := inWords()
	for at := -3; at <= len(s)+3; at++ {
		checkAt(t, s, at)
		checkWords(t, words, s, at)
		checkAround(t, s, at)
		checkFollows(t, s, at)
	}
	for _, at := range farAway() {
		checkAt(t, s, at)
		checkWords(t, words, s, at)
		checkFollows(t, s, at)
	}
}

func TestBegins(t *testing.T) {
	for _, x := range []struct {
		s    string
		want []int
	}{
		{"", nil}, {"a", nil}, {"a < b</>c", []int{5}},
		// Tags and their ends, in whatever letters.
		{"<a", []int{0}}, {"<A>", []int{0}}, {"<z>", []int{0}}, {"<Z", []int{0}}, {"</a", []int{0}}, {"</A>", []int{0}}, {"</z>", []int{0}}, {"</Z", []int{0}}, {"x<p>y</p>z", []int{1, 5}}, {"<Script", []int{0}}, {"</sCRIPT", []int{0}}, {"<a<b", []int{0, 2}}, {"<a x='<b>'>", []int{0, 6}},
		// Comments, and what else chapter 10 lets begin.
		{"<!--a-->", []int{0}}, {"<!---->", []int{0}}, {"<!-->", []int{0}}, {"<!-", []int{0}}, {"<!", []int{0}}, {"<!>", []int{0}}, {"<!a>", []int{0}}, {"<![CDATA[a]]>", []int{0}}, {"<!doctyp", []int{0}}, {"<?", []int{0}}, {"<?xml?>", []int{0}}, {"<?>", []int{0}}, {"</ a>", []int{0}}, {"</1", []int{0}}, {"</\x00", []int{0}}, {"</\xff", []int{0}}, {"<//", []int{0}}, {"</!", []int{0}}, {"</?", []int{0}}, {"</<", []int{0}}, {"</-->", []int{0}}, {"</\n", []int{0}}, {"</\u00e9>", []int{0}},
		// Doctypes, in whatever letters.
		{"<!doctype", []int{0}}, {"<!DOCTYPE", []int{0}}, {"<!DocType html>", []int{0}}, {"a<!doctype>b", []int{1}}, {"<!doctypes", []int{0}}, {"<!doctype<a>", []int{0, 9}},
		// An end without a name.
		{"</>", []int{0}}, {"a</>", []int{1}}, {"a</>b</>", []int{1, 5}}, {"</></>", []int{0, 3}}, {"</>a", []int{0}}, {"</>>", []int{0}},
		// Text: a bracket with nothing, or something else, behind it.
		{"<", nil}, {"a<", nil}, {"</", nil}, {"a</", nil}, {"< ", nil}, {"< a>", nil}, {"< /a>", nil}, {"< !--a-->", nil}, {"<\ta", nil}, {"<\na", nil}, {"<\ra", nil}, {"<\x00a", nil}, {"<1", nil}, {"<0a>", nil}, {"<9", nil}, {"<<", nil}, {"<<<", nil}, {"<>", nil}, {"<>a", nil}, {"<=a", nil}, {"<-a", nil}, {"<--a-->", nil}, {"<'a'", nil}, {"<\"a", nil}, {"<&amp;a", nil}, {"<&#97;>", nil}, {"<_a>", nil}, {"<:a>", nil}, {"<@a>", nil}, {"<[a", nil}, {"<`a", nil}, {"<{a", nil}, {"<%a%>", nil}, {"<$a", nil}, {"<#a", nil}, {"<\u00e9>", nil}, {"<\u017f>", nil}, {"<\u212a>", nil}, {"<\xe1>", nil}, {"<\xc1>", nil}, {"<\xff", nil}, {"\uff1ca>", nil}, {"&lt;a>", nil}, {"&#60;a>", nil}, {"a>b", nil}, {"/a>", nil}, {"!--", nil}, {"a/>", nil}, {"<\\a", nil}, {"<|/a", nil},
		// One bracket behind another.
		{"<<a", []int{1}}, {"<<<a>", []int{2}}, {"<</a>", []int{1}}, {"</</a>", []int{0, 2}}, {"<</", nil}, {"<</>", []int{1}}, {"<<!", []int{1}}, {"< <a>", []int{2}}, {"<1<a", []int{2}}, {"</<", []int{0}}, {"</</", []int{0}}, {"</</>", []int{0, 2}}, {"<//a>", []int{0}}, {"<!<!", []int{0, 2}}, {"<?<?", []int{0, 2}}, {"<!--<a>-->", []int{0, 4}}, {"<><a>", []int{2}},
	} {
		for at := -5; at <= len(x.s)+5; at++ {
			if got := Begins(x.s, at); got != slices.Contains(x.want, at) {
				t.Errorf("Begins(%q, %d): %t", x.s, at, got)
			}
		}
		for _, at := range farAway() {
			if Begins(x.s, at) {
				t.Errorf("Begins(%q, %d): true", x.s, at)
			}
		}
		check(t, x.s)
	}
}

func TestEachByteBehindABracket(t *testing.T) {
	for _, c := range eachByte() {
		marks := strings.Contains(letters+"!?", c)
		for _, x := range []struct {
			s    string
			want bool
		}{
			{"<" + c, marks}, {"</" + c, true}, {"<!" + c, true}, {"<?" + c, true}, {c, false}, {c + "a", c == "<"}, {c + "/a", c == "<"}, {c + "/>", c == "<"}, {c + "!", c == "<"}, {c + "?", c == "<"}, {c + "!doctype", c == "<"},
			{"<" + c + "a", marks || c == "/"}, {"<" + c + ">", marks || c == "/"}, {"<" + c + "/", marks || c == "/"}, {"<" + c + "!", marks || c == "/"}, {"<" + c + "?", marks || c == "/"}, {"<" + c + "<", marks || c == "/"}, {"<" + c + "doctype", marks || c == "/"}, {"<" + c + "--", marks || c == "/"}, {"<" + c + " ", marks || c == "/"}, {"<" + c + "\x00", marks || c == "/"},
			{"</" + c + ">", true}, {"</" + c + "a", true}, {"<!" + c + "-", true}, {"<!" + c + "octype", true}, {"<!doctype" + c, true}, {"<!--" + c, true}, {"</>" + c, true},
		} {
			if got := Begins(x.s, 0); got != x.want {
				t.Errorf("Begins(%q, 0): %t", x.s, got)
			}
			for _, ahead := range []string{"a", "<", " ", "\x00", "</", "<!"} {
				if got := Begins(ahead+x.s, len(ahead)); got != x.want {
					t.Errorf("Begins(%q, %d): %t", ahead+x.s, len(ahead), got)
				}
			}
			check(t, x.s)
		}
	}
}

func TestMarkupCutShort(t *testing.T) {
	for _, x := range []struct {
		whole string
		n     int // how many bytes of it there must be
	}{{"<a>", 2}, {"<A x='y'/>", 2}, {"</a>", 3}, {"</B >", 3}, {"</>", 3}, {"<!--a-->", 2}, {"<!>", 2}, {"<?x>", 2}, {"</ a>", 3}, {"</1>", 3}, {"<!doctype html>", 2}, {"<!DOCTYPE", 2}} {
		for n := range len(x.whole) + 1 {
			s := x.whole[:n]
			want := n >= x.n
			if got := Begins(s, 0); got != want {
				t.Errorf("Begins(%q, 0): %t", s, got)
			}
			wantAt := n + 1
			if want {
				wantAt = 1
			}
			if got := Next("a"+s, 0); got != wantAt {
				t.Errorf("Next(%q, 0): %d, want %d", "a"+s, got, wantAt)
			}
			if text, next := Read("a"+s, 0); text != ("a" + s)[:wantAt] || next != wantAt {
				t.Errorf("Read(%q, 0): %q, %d", "a"+s, text, next)
			}
			// A byte is left out, or another one stands in its place.
			if n < len(x.whole) {
				check(t, s+x.whole[n+1:])
				for _, c := range eachByte() {
					checkAt(t, s+c+x.whole[n+1:], 0)
				}
			}
			check(t, s)
			check(t, "<"+s)
			check(t, s+s)
			check(t, s+" "+s)
		}
	}
}

func TestWhateverLetters(t *testing.T) {
	for _, word := range eachCase("doctype") {
		for _, behind := range []string{"", ">", " html>", "s", "-", "\x00"} {
			s := "a<!" + word + behind
			if text, next := Read(s, 0); !Begins(s, 1) || text != "a" || next != 1 {
				t.Errorf("Read(%q, 0): %q, %d", s, text, next)
			}
			checkAt(t, s, 1)
			checkAt(t, s, 2)
		}
		checkAt(t, "<"+word, 0)
		checkAt(t, "</"+word+">", 0)
	}
	for _, c := range strings.Split(letters, "") {
		for _, s := range []string{"<" + c, "<" + c + ">", "</" + c, "</" + c + ">", "<" + c + "1", "</" + c + "1"} {
			if text, next := Read("a"+s, 0); !Begins(s, 0) || text != "a" || next != 1 {
				t.Errorf("Read(%q, 0): %q, %d", "a"+s, text, next)
			}
		}
	}
}

func TestNext(t *testing.T) {
	for _, x := range []struct {
		s        string
		at, want int
	}{
		// None.
		{"", 0, 0}, {"a", 0, 1}, {"abc", 1, 3}, {"<", 0, 1}, {"</", 0, 2}, {"a<", 0, 2}, {"< a > b", 0, 7}, {"a&lt;b", 0, 6}, {"a\x00\xff", 0, 3}, {"<1<2", 0, 4},
		// At the first byte, and at the last that may be one.
		{"<a>b", 0, 0}, {"</>", 0, 0}, {"<!", 0, 0}, {"<?", 0, 0}, {"</ ", 0, 0}, {"ab<c", 0, 2}, {"ab<!", 0, 2}, {"ab<?", 0, 2}, {"ab</>", 0, 2}, {"ab</\x00", 0, 2},
		// The least of several.
		{"a<b>c<d>", 0, 1}, {"a<b>c<d>", 1, 1}, {"a<b>c<d>", 2, 5}, {"a<b>c<d>", 5, 5}, {"a<b>c<d>", 6, 8}, {"a</>b<c>", 0, 1}, {"a<c>b</>", 2, 5}, {"a<!--<b>--></b>", 0, 1}, {"a<?<!</><b>", 0, 1}, {"a<?<!</><b>", 2, 3}, {"a<?<!</><b>", 4, 5}, {"a<?<!</><b>", 6, 8}, {"a<?<!</><b>", 9, 11}, {"a<1<b<c", 0, 3},
		// In the midst of markup.
		{"<a>b</a>", 1, 4}, {"<a>b</a>", 2, 4}, {"<a>b</a>", 3, 4}, {"<a>b</a>", 5, 8}, {"<a>b</a>", 6, 8}, {"<!--a-->b", 1, 9}, {"<!--<a-->b", 1, 4}, {"<!doctype>", 1, 10}, {"</><a", 1, 3}, {"</><a", 2, 3}, {"</a", 1, 3}, {"<<a", 0, 1}, {"<<a", 1, 1}, {"<<a", 2, 3}, {"</<a", 0, 0}, {"</<a", 1, 2}, {"<a x='<b>'>", 1, 6},
		// Beside the text.
		{"<a>b", -1, 0}, {"ab<c", -1, 2}, {"ab<c", -9, 2}, {"ab", -1, 2}, {"", -1, 0}, {"ab<c", math.MinInt, 2}, {"<a", math.MinInt, 0}, {"ab<c", 4, 4}, {"ab<c", 5, 4}, {"ab<c", 99, 4}, {"ab<c", math.MaxInt, 4}, {"<a", math.MaxInt - 1, 2}, {"", 1, 0}, {"", math.MaxInt, 0}, {"", math.MinInt, 0}, {"<a", 2, 2}, {"<a", 3, 2},
	} {
		if got := Next(x.s, x.at); got != x.want {
			t.Errorf("Next(%q, %d): %d, want %d", x.s, x.at, got, x.want)
		}
		if _, next := Read(x.s, x.at); next != x.want {
			t.Errorf("Read(%q, %d): next %d, want %d", x.s, x.at, next, x.want)
		}
		check(t, x.s)
	}
}

func TestRead(t *testing.T) {
	for _, x := range []struct {
		s    string
		at   int
		text string
		next int
	}{
		{"a < b</>c", 0, "a < b", 5},
		// Nothing.
		{"", 0, "", 0}, {"<a>b", 0, "", 0}, {"</>", 0, "", 0}, {"a<b", 1, "", 1}, {"a", 1, "", 1}, {"a", 2, "", 1}, {"&lt;<b>", 4, "", 4}, {"<!--a-->", 0, "", 0}, {"<!doctype>", 0, "", 0}, {"<?", 0, "", 0}, {"</ ", 0, "", 0},
		// Names with a semicolon and without.
		{"&amp;", 0, "&", 5}, {"&amp", 0, "&", 4}, {"a&lt;b", 0, "a<b", 6}, {"a&ltb", 0, "a<b", 5}, {"&notit;", 0, "\u00acit;", 7}, {"&notin;", 0, "\u2209", 7}, {"&notin", 0, "\u00acin", 6}, {"&NotEqualTilde;x", 0, "\u2242\u0338x", 16}, {"&apos;&apos", 0, "'&apos", 11}, {"&nbsp;&nbsp", 0, "\u00a0\u00a0", 11}, {"&AMP&amp;amp;", 0, "&&amp;", 13},
		// Numbers.
		{"&#65;&#65", 0, "AA", 9}, {"&#x4a;&#X4Ag", 0, "JJg", 12}, {"&#128;", 0, "\u20ac", 6}, {"&#xD800;&#0;", 0, bad + bad, 12}, {"&#13;&#10;", 0, "\r\n", 10}, {"&#x1F600;", 0, "\U0001f600", 9}, {"&#99999999999999999999;", 0, bad, 23},
		// It is no attribute: a short name is read whatever stands behind it.
		{"?a=b&copy=1", 0, "?a=b\u00a9=1", 11}, {"&copya", 0, "\u00a9a", 6}, {"&copy1", 0, "\u00a91", 6}, {"&copyZ", 0, "\u00a9Z", 6}, {"&lt=&gt9", 0, "<=>9", 8}, {"&notina", 0, "\u00acina", 7},
		// Markup cuts them.
		{"&am<b>p;", 0, "&am", 3}, {"&amp<b>;", 0, "&", 4}, {"&lt</b>;", 0, "<", 3}, {"&<b>amp;", 0, "&", 1}, {"&#<b>65;", 0, "&#", 2}, {"&#x<!>41;", 0, "&#x", 3}, {"&#6<?>5;", 0, "\x06", 3}, {"&#x4</>1;", 0, "\x04", 4}, {"&notin</>;", 0, "\u00acin", 6}, {"&not</>in;", 0, "\u00ac", 4}, {"&no<b>tin;", 0, "&no", 3}, {"&copy<b>=1", 0, "\u00a9", 5}, {"&lt<!doctype>;", 0, "<", 3}, {"a&lt</ >;", 0, "a<", 4},
		// A bracket that begins nothing ends them, but not the text.
		{"&am<p;", 0, "&am", 3}, {"&am< p;", 0, "&am< p;", 7}, {"&lt<", 0, "<<", 4}, {"&lt</", 0, "<</", 5}, {"&<amp;", 0, "&", 1}, {"&<&amp;", 0, "&<&", 7}, {"&#6<5;", 0, "\x06<5;", 6}, {"&lt<1", 0, "<<1", 5}, {"<&lt;<&lt;<", 0, "<<<<<", 11},
		// They end where the text does.
		{"a&lt;", 0, "a<", 5}, {"a&lt", 0, "a<", 4}, {"a&l", 0, "a&l", 3}, {"a&", 0, "a&", 2}, {"a&#", 0, "a&#", 3}, {"a&#x", 0, "a&#x", 4}, {"a&#6", 0, "a\x06", 4}, {"a&#x4", 0, "a\x04", 5}, {"a&notin", 0, "a\u00acin", 7},
		// Ampersands alone.
		{"&", 0, "&", 1}, {"&&", 0, "&&", 2}, {"&&&", 0, "&&&", 3}, {"a & b", 0, "a & b", 5}, {"&;", 0, "&;", 2}, {"&#;", 0, "&#;", 3}, {"&nosuch;", 0, "&nosuch;", 8}, {"&Amp;", 0, "&Amp;", 5}, {"& amp;", 0, "& amp;", 6}, {"&&amp;&", 0, "&&&", 7},
		// What is told isn't read again: it begins neither markup nor a reference.
		{"&lt;b>c<d>", 0, "<b>c", 7}, {"&lt;!--a", 0, "<!--a", 8}, {"&lt;/b>", 0, "</b>", 7}, {"&#60;b>", 0, "<b>", 7}, {"<&#98;>", 0, "<b>", 7}, {"<&#x2f;>", 0, "</>", 8}, {"<&excl;--", 0, "<!--", 9}, {"<&quest;", 0, "<?", 8}, {"&lt;&sol;&gt;", 0, "</>", 13}, {"&amp;lt;b>", 0, "&lt;b>", 10}, {"&#38;lt;", 0, "&lt;", 8}, {"&amp;#60;", 0, "&#60;", 9},
		// The byte 0, line's ends, and bytes that are no signs stay.
		{"\x00", 0, "\x00", 1}, {"a\x00b<c>", 0, "a\x00b", 3}, {"<\x00a", 0, "<\x00a", 3}, {"&\x00amp;", 0, "&\x00amp;", 6}, {"&amp\x00;", 0, "&\x00;", 6}, {"&#6\x005;", 0, "\x06\x005;", 6}, {"a\r\nb\rc\nd", 0, "a\r\nb\rc\nd", 8}, {"\r\n<\r\n", 0, "\r\n<\r\n", 5}, {"&lt\r\n;", 0, "<\r\n;", 6}, {" \t\f a ", 0, " \t\f a ", 6}, {"\xff&lt;\xe2\x82", 0, "\xff<\xe2\x82", 7}, {"\xe2\x82<b>", 0, "\xe2\x82", 2}, {"&\xfflt;", 0, "&\xfflt;", 5}, {"\u00c9\u20ac", 0, "\u00c9\u20ac", 5},
		// From places within, and beside the text.
		{"ab<c>d", 1, "b", 2}, {"ab<c>d", 2, "", 2}, {"ab<c>d", 3, "c>d", 6}, {"ab<c>d", 4, ">d", 6}, {"ab<c>d", 5, "d", 6}, {"ab<c>d", 6, "", 6}, {"ab<c>d", 7, "", 6}, {"ab<c>d", math.MaxInt, "", 6}, {"ab<c>d", -1, "ab", 2}, {"ab<c>d", math.MinInt, "ab", 2}, {"a&lt;b", -7, "a<b", 6}, {"a&lt;b", 2, "lt;b", 6}, {"a&lt;b", 4, ";b", 6}, {"&amp;lt;", 4, ";lt;", 8}, {"&&lt;", 1, "<", 5}, {"", -1, "", 0}, {"", 1, "", 0}, {"<a>", 1, "a>", 3}, {"<a>", -1, "", 0}, {"</>a", 1, "/>a", 4}, {"<!--&lt;-->", 1, "!--<-->", 11},
	} {
		if text, next := Read(x.s, x.at); text != x.text || next != x.next {
			t.Errorf("Read(%q, %d): %q, %d, want %q, %d", x.s, x.at, text, next, x.text, x.next)
		}
		check(t, x.s)
	}
}

func TestReadOfParts(t *testing.T) {
	// Each of these says the same, whatever stands beside it.
	parts := []struct{ s, says string }{{"a", "a"}, {"< ", "< "}, {"<1", "<1"}, {"&lt;", "<"}, {"&amp;", "&"}, {"& ", "& "}, {"&#98;", "b"}, {"&#0;", bad}, {"\x00", "\x00"}, {"/", "/"}, {"\r\n", "\r\n"}, {"\xff", "\xff"}, {"&NotEqualTilde;", "\u2242\u0338"}, {";", ";"}}
	var digits []string
	for k := range parts {
		digits = append(digits, string([]byte{byte(k)}))
	}
	for n := range 5 {
		eachText(digits, n, func(of string) {
			s, says := "", ""
			for k := range len(of) {
				s, says = s+parts[of[k]].s, says+parts[of[k]].says
			}
			for _, behind := range []string{"", "<b>", "</>", "<!--", "<?"} {
				if text, next := Read(s+behind, 0); text != says || next != len(s) {
					t.Errorf("Read(%q, 0): %q, %d, want %q, %d", s+behind, text, next, says, len(s))
				}
			}
			if text, next := Read("<b"+s, 2); text != says || next != len(s)+2 {
				t.Errorf("Read(%q, 2): %q, %d, want %q, %d", "<b"+s, text, next, says, len(s)+2)
			}
		})
	}
}

func TestReadOfEachName(t *testing.T) {
	for _, line := range strings.Split(strings.TrimSpace(api.Names), "\n") {
		fields := strings.Fields(line)
		want := ""
		for _, digits := range fields[1:] {
			n, _ := new(big.Int).SetString(digits, 16)
			want += string(rune(n.Int64()))
		}
		name := "&" + fields[0]
		for _, behind := range []string{"", "<b>", "</>", "<", "</", "< ;", "=", " "} {
			s, next := name+behind, len(name)
			says := want
			if behind != "<b>" && behind != "</>" {
				next, says = len(s), want+behind
			}
			if text, n := Read(s, 0); text != says || n != next {
				t.Errorf("Read(%q, 0): %q, %d, want %q, %d", s, text, n, says, next)
			}
			// A bracket that a reference told begins no markup.
			checkAt(t, s+"b", 0)
			checkFollows(t, s+"b", 0)
		}
		for at := range len(name) {
			checkAt(t, name[:at]+"<b>"+name[at:], 0)
			checkAt(t, name, at)
		}
	}
}

func TestTextHasNoTag(t *testing.T) {
	// A reference alone tells a bracket with a letter behind it: by the bracket, the letter, or both.
	for _, x := range []struct {
		s   string
		has bool
	}{
		{"&lt;a", true}, {"&lta", true}, {"&#60;a", true}, {"&#x3ca", false}, {"&#x3c;a", true}, {"&LT;Z", true}, {"<&#97;", true}, {"<&#x41", true}, {"&lt;&#97;", true}, {"<a", false}, {"<A>", false}, {"<&lt;a", true}, {"<1<a", false}, {"< a", false}, {"<\x00a", false}, {"<&eacute;", false}, {"<&amp;a", false}, {"&lt;<a", false}, {"&lt; a", false}, {"&amp;lt;a", false}, {"&l<t;a", false}, {"&\x00lt;a", false}, {"&lt;", false}, {"&gt;a", false}, {"<&Aopf;", false}, {"<&#383;", false},
	} {
		if text, next := Read(x.s, 0); hasTag(text) != x.has {
			t.Errorf("Read(%q, 0): %q, %d", x.s, text, next)
		}
		check(t, x.s)
	}
	// References of other signs tell none.
	for n := range 6 {
		eachText([]string{"<", "a", "/", "&amp;", "&eacute", "&#233;", " ", "Z", ">", "\x00"}, n, func(s string) {
			for at := range len(s) + 1 {
				if text, next := Read(s, at); hasTag(text) {
					t.Errorf("Read(%q, %d): %q, %d", s, at, text, next)
				}
				if at > 3 {
					break
				}
			}
		})
	}
}

func TestAllShortTexts(t *testing.T) {
	words := inWords()
	bytes := eachByte()
	for _, ahead := range []string{"", "<", "</", "<!", "<!doctype", "a<", "&lt"} {
		for n := range 3 {
			eachText(bytes, n, func(s string) {
				checkAt(t, ahead+s, 0)
				checkBegins(t, ahead+s, len(ahead))
				checkWords(t, words, ahead+s+"<a", 0)
				checkFollows(t, ahead+s+"a", 0)
			})
		}
	}
	parts := []string{"<", "/", ">", "!", "?", "a", "Z", "1", " ", "\x00", "-", "&lt", ";", "!doctype"}
	for n := range 4 {
		eachText(parts, n, func(s string) { check(t, s) })
	}
	for _, n := range []int{4, 5} {
		eachText(parts, n, func(s string) {
			checkAt(t, s, 0)
			checkWords(t, words, s, 1)
		})
	}
	for n := range 8 {
		eachText([]string{"<", "/", ">", "a", "!", " "}, n, func(s string) {
			checkAt(t, s, 0)
			checkWords(t, words, s, 0)
			checkFollows(t, s, 0)
		})
	}
}

func TestLongTexts(t *testing.T) {
	for _, part := range []string{"a", "<", "< ", "<1", "<>", "<\x00", "/", "&", "&amp;", "&#0;", "&lt;a", "\x00", "\xff", "\r\n", ">", "<= /"} {
		s := strings.Repeat(part, 1<<14)
		for _, behind := range []string{"<b>", "</b>", "</>", "<!--", "<?", "</ ", "<!doctype>"} {
			for _, at := range []int{math.MinInt, -1, 0, 1, len(s) / 2, len(s) - 1, len(s)} {
				if got := Next(s+behind+s+behind, at); got != len(s) {
					t.Errorf("Next of %q, many times, and %q, from %d on: %d", part, behind, at, got)
				}
			}
			text, next := Read(s+behind+s, 0)
			if want := ref.Decode(s, false); text != want || next != len(s) {
				t.Errorf("Read of %q, many times, and %q: %q, %d", part, behind, short(text), next)
			}
		}
		if text, next := Read(s, 0); text != ref.Decode(s, false) || next != len(s) {
			t.Errorf("Read of %q, many times: %q, %d", part, short(text), next)
		}
		checkAt(t, s, len(s)-1)
	}
	if text, next := Read(strings.Repeat("&#0;", 1<<20)+"</>", 0); text != strings.Repeat(bad, 1<<20) || next != 1<<22 {
		t.Errorf("%q, %d", short(text), next)
	}
	// Each place of many.
	s := strings.Repeat("<a</><!<?</ <!doctype", 1<<12)
	places := 0
	for at := Next(s, 0); at < len(s); at = Next(s, at+1) {
		places++
	}
	if places != 6<<12 {
		t.Errorf("%d places, want %d", places, 6<<12)
	}
}

func TestTheSameEachTime(t *testing.T) {
	for range 1000 {
		for _, s := range []string{"a < b</>c", "<a", "</a>", "<!--", "<!doctype", "<?", "&lt<b", "", "<"} {
			for at := -1; at <= len(s)+1; at++ {
				checkAt(t, s, at)
			}
		}
	}
}

func FuzzText(f *testing.F) {
	for _, s := range []string{"", "a < b</>c", "a&lt;b<b>", "<a", "</a>", "<!--a-->", "<!DOCTYPE", "<?", "</ ", "<", "</", "<1<a", "&am<b>p;", "a\x00b", "<<b>", "&#0;&lt", "<&#98;>", "\xff<\xe1>"} {
		f.Add(s, 0)
		f.Add(s, 1)
		f.Add(s, -1)
	}
	f.Fuzz(func(t *testing.T, s string, at int) {
		checkAt(t, s, at)
		checkWords(t, inWords(), s, at)
		checkAround(t, s, at)
		checkFollows(t, s, at)
		check(t, s[:min(len(s), 60)])
	})
}
