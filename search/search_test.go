package search

import (
	"math"
	"slices"
	"strconv"
	"strings"
	"testing"

	"flail/api"
)

// line is one of a sorted list, before it is written as one.
type line struct{ key, rest string }

// written is those lines as a sorted list.
func written(lines []line) string {
	told := make([]string, len(lines))
	for k, l := range lines {
		told[k] = l.key + " " + l.rest
	}
	return strings.Join(told, "\n")
}

// keyed is a line for each of those keys, which needn't rise, with rests of several lengths, of which no two are alike.
func keyed(keys ...string) []line {
	keys = slices.Clone(keys)
	slices.Sort(keys)
	var lines []line
	for k, key := range slices.Compact(keys) {
		lines = append(lines, line{key, strings.Repeat("-", k*7%5) + strconv.Itoa(k)})
	}
	return lines
}

// wantLine is what the chapter asks of Line: all lines are asked, one behind the other.
func wantLine(lines []line, key string) (rest string, ok bool) {
	for _, l := range lines {
		if l.key == key {
			return l.rest, true
		}
	}
	return "", false
}

// wantLongest is what the chapter asks of Longest, by all lines, too.
func wantLongest(lines []line, s string, at, most int) int {
	if at < 0 || at > len(s) {
		return 0
	}
	n := 0
	for _, l := range lines {
		if strings.HasPrefix(s[at:], l.key) && len(l.key) <= most {
			n = max(n, len(l.key))
		}
	}
	return n
}

// checkLine checks Line of that key.
func checkLine(t *testing.T, lines []line, list, key string) {
	t.Helper()
	rest, ok := Line(list, key)
	if want, wantOk := wantLine(lines, key); rest != want || ok != wantOk {
		t.Errorf("Line(%q, %q): %q, %t, want %q, %t", short(list), key, short(rest), ok, short(want), wantOk)
	}
}

// checkLongest checks Longest of one place.
func checkLongest(t *testing.T, lines []line, list, s string, at, most int) {
	t.Helper()
	if got, want := Longest(list, s, at, most), wantLongest(lines, s, at, most); got != want {
		t.Errorf("Longest(%q, %q, %d, %d): %d, want %d", short(list), short(s), at, most, got, want)
	}
}

// checkText checks both calls of that text, at each place, with each most, and beside them.
func checkText(t *testing.T, lines []line, list, s string) {
	t.Helper()
	checkLine(t, lines, list, s)
	for at := -1; at <= len(s)+1; at++ {
		for most := -1; most <= len(s)+1; most++ {
			checkLongest(t, lines, list, s, at, most)
		}
		checkLongest(t, lines, list, s, at, math.MaxInt)
	}
}

// checkEachKey checks that each key of these lines is found, and that what is near to it is found only if it is one, too.
func checkEachKey(t *testing.T, lines []line) {
	t.Helper()
	list := written(lines)
	for _, l := range lines {
		if rest, ok := Line(list, l.key); rest != l.rest || !ok {
			t.Errorf("Line(%q, %q): %q, %t, want %q", short(list), l.key, short(rest), ok, short(l.rest))
		}
		if n := Longest(list, l.key, 0, len(l.key)); n != len(l.key) {
			t.Errorf("Longest(%q, %q, 0, %d): %d", short(list), l.key, len(l.key), n)
		}
		for _, key := range near(l) {
			checkLine(t, lines, list, key)
			for _, most := range []int{1, len(l.key) - 1, len(l.key), len(key), math.MaxInt} {
				checkLongest(t, lines, list, key, 0, most)
				checkLongest(t, lines, list, "\xff"+key, 1, most)
			}
		}
	}
	for _, key := range []string{"", " ", "\n", "\x00", "\xff", strings.Repeat("\xff", 40), list, list + "\n"} {
		checkLine(t, lines, list, key)
	}
}

// near is texts that are hardly other than the key of that line.
func near(l line) []string {
	key := l.key
	last := key[len(key)-1]
	return []string{
		key[:len(key)-1],
		key[1:],
		key[:len(key)-1] + string([]byte{last - 1}),
		key[:len(key)-1] + string([]byte{last + 1}),
		key + "\x00", key + "\x01", key + " ", key + "\n", key + "!", key + ";", key + "a", key + "\xff", key + key,
		" " + key, "\n" + key, "\x00" + key,
		key + " " + l.rest,
		key + " " + l.rest[:len(l.rest)/2],
		key + " " + l.rest + "\n",
		" " + l.rest, l.rest,
	}
}

// short is s, or so much of it as a failing test may tell.
func short(s string) string {
	if len(s) > 300 {
		return s[:300] + ".."
	}
	return s
}

// eachText hands all texts of n of those bytes to see.
func eachText(of string, n int, see func(string)) {
	if n == 0 {
		see("")
		return
	}
	eachText(of, n-1, func(ahead string) {
		for k := range len(of) {
			see(ahead + of[k:k+1])
		}
	})
}

// textsUpTo is all texts of at most n of those bytes.
func textsUpTo(of string, n int) []string {
	var told []string
	for k := range n + 1 {
		eachText(of, k, func(s string) { told = append(told, s) })
	}
	return told
}

// numbered is so many lines, their keys of one length.
func numbered(n int) []line {
	lines := make([]line, n)
	for k := range lines {
		lines[k] = line{"k" + strconv.Itoa(100000+k), strconv.Itoa(k)}
	}
	return lines
}

// nested is a list of keys of which each is the beginning of the next: of each length that is given, one.
func nested(lengths ...int) []line {
	var keys []string
	for _, n := range lengths {
		keys = append(keys, strings.Repeat("n", n))
	}
	return keyed(keys...)
}

// abc is a list in which keys begin with others, as all may have them.
func abc() []line {
	return []line{{"a", "1"}, {"ab", "1 2"}, {"abc", ""}, {"abd", "x  y "}, {"b", " "}, {"bcd", "a b"}, {"c", "c"}}
}

func TestLineOfTheChapter(t *testing.T) {
	for key, want := range map[string]string{"ab": "1", "abc": "2"} {
		if rest, ok := Line("ab 1\nabc 2", key); rest != want || !ok {
			t.Errorf("%q: %q, %t", key, rest, ok)
		}
	}
	if n := Longest("ab 1\nabc 2", "xabcd", 1, math.MaxInt); n != 3 {
		t.Errorf("xabcd from 1: %d", n)
	}
}

func TestLine(t *testing.T) {
	list := written(abc())
	if list != "a 1\nab 1 2\nabc \nabd x  y \nb  \nbcd a b\nc c" {
		t.Fatalf("list: %q", list)
	}
	for key, want := range map[string]string{"a": "1", "ab": "1 2", "abc": "", "abd": "x  y ", "b": " ", "bcd": "a b", "c": "c"} {
		if rest, ok := Line(list, key); rest != want || !ok {
			t.Errorf("Line of %q: %q, %t, want %q", key, rest, ok, want)
		}
	}
	for _, key := range []string{
		// The empty one; ahead of all, behind all, between two.
		"", "A", "Z", "0", "\x00", "`", "d", "cc", "c\x00", "z", "\xff", "aa", "aba", "abb", "abcc", "abe", "ac", "bc", "bcc", "bce", "bd",
		// What begins keys, and what keys begin.
		"bcde", "abcd", "abdx",
		// With a blank, or a byte 10, and with a part of the rest behind it.
		" ", "  ", "a ", " a", "ab 1", "ab 1 ", "ab 1 2", "a 1", "abd x", "abd ", "b ", "b  ", "bcd a", "c c", "\n", "a\n", "\na", "a 1\n", "a 1\nab", "a 1\nab 1 2", "ab 1 2\nabc", "\nab", "\nc c",
		// Rests.
		"1", "1 2", "x  y ", "x", "2", "y", "a b",
		list,
	} {
		if rest, ok := Line(list, key); rest != "" || ok {
			t.Errorf("Line of %q: %q, %t", key, rest, ok)
		}
	}
	checkEachKey(t, abc())
}

func TestLineOfNoLine(t *testing.T) {
	for _, key := range []string{"", "a", " ", "\n", "\x00", "\xff", "a b", strings.Repeat("a", 1000)} {
		if rest, ok := Line("", key); rest != "" || ok {
			t.Errorf("Line(\"\", %q): %q, %t", key, rest, ok)
		}
		for _, at := range []int{math.MinInt, -1, 0, 1, len(key), math.MaxInt} {
			if n := Longest("", key, at, math.MaxInt); n != 0 {
				t.Errorf("Longest(\"\", %q, %d): %d", key, at, n)
			}
		}
	}
}

func TestLineOfFewLines(t *testing.T) {
	rests := []string{"", " ", "r", "a", "r s", " r", "r ", "a a", "\x00", "\r", "\t", strings.Repeat("long ", 100)}
	for _, one := range rests {
		checkEachKey(t, []line{{"a", one}})
		checkEachKey(t, []line{{"\x01", one}})
		checkEachKey(t, []line{{"key", one}})
		for _, two := range rests {
			checkEachKey(t, []line{{"a", one}, {"b", two}})
			checkEachKey(t, []line{{"a", one}, {"ab", two}})
			checkEachKey(t, []line{{"a", one}, {"a\x01", two}})
			for _, three := range rests {
				checkEachKey(t, []line{{"a", one}, {"ab", two}, {"abc", three}})
				checkEachKey(t, []line{{"a", one}, {"b", two}, {"c", three}})
				checkEachKey(t, []line{{"kk", one}, {"kk\x1f", two}, {"kk!", three}})
			}
		}
	}
}

func TestLineOfEachCountOfLines(t *testing.T) {
	for n := range 40 {
		checkEachKey(t, numbered(n))
	}
	for _, n := range []int{99, 100, 101, 127, 128, 129, 300} {
		checkEachKey(t, numbered(n))
	}
}

func TestLineOfManyLines(t *testing.T) {
	lines := numbered(100000)
	list := written(lines)
	for _, l := range lines {
		if rest, ok := Line(list, l.key); rest != l.rest || !ok {
			t.Fatalf("Line of %q: %q, %t", l.key, rest, ok)
		}
		if rest, ok := Line(list, l.key+"0"); rest != "" || ok {
			t.Fatalf("Line of %q, and 0: %q, %t", l.key, rest, ok)
		}
	}
}

// A rest may be as long as all other lines together, wherever it stands, and look like lines, but for their ends.
func TestLineOfLongRests(t *testing.T) {
	for _, n := range []int{1, 2, 3, 10, 100} {
		for k := 0; k < n; k += 1 + n/9 {
			lines := numbered(n)
			all := strings.ReplaceAll(written(lines), "\n", " ")
			lines[k].rest = all + strings.Repeat(" "+lines[n-1].key+" x", 20)
			checkEachKey(t, lines)
		}
	}
	lines := numbered(40)
	for k := range lines {
		lines[k].rest = strings.Repeat("r", 1<<(k%17))
	}
	checkEachKey(t, lines)
}

// Keys rise, byte by byte; lines then needn't, as a key's next byte may be less than the blank behind a shorter one.
func TestLineOfKeysWithBytesBelowTheBlank(t *testing.T) {
	for _, keys := range [][]string{
		{"a", "a\x00", "a\x01", "a\x1f", "a!", "aa"},
		{"a", "a\x00", "a\x00\x00", "a\x00\x00\x00", "a\x01", "b"},
		{"a", "a\t", "a\r", "a\v", "a\f", "b", "b\t"},
		{"\x00", "\x00\x00", "\x01", "\x1f", "!"},
		{"\r", "\r\r", "\r!"},
		{"k", "k\x01k", "k\x01k\x01", "k\x02", "kk"},
	} {
		checkEachKey(t, keyed(keys...))
	}
	// A first and a last one that would change places, were the lines held against each other.
	if rest, ok := Line("a z\na\x01 y", "a"); rest != "z" || !ok {
		t.Errorf("a: %q, %t", rest, ok)
	}
	if rest, ok := Line("a z\na\x01 y", "a\x01"); rest != "y" || !ok {
		t.Errorf("a and 1: %q, %t", rest, ok)
	}
}

func TestBytesThatAreNoSigns(t *testing.T) {
	checkEachKey(t, keyed("a\xff", "\xff", "\xff\xff", "\x80", "\xe2\x82", "\xe2\x82\xac", "\xed\xa0\x80", "\xef\xbf\xbd", "\xc0\x80", "z", "\x7f", "\u00e9", "\U0001f600"))
	// Each byte that may be a key, as one.
	var keys []string
	for c := range 256 {
		if c != ' ' && c != '\n' {
			keys = append(keys, string([]byte{byte(c)}))
		}
	}
	checkEachKey(t, keyed(keys...))
	for c := range 256 {
		s := string([]byte{byte(c)})
		checkText(t, keyed(keys...), written(keyed(keys...)), s)
		checkText(t, abc(), written(abc()), "a"+s+"b")
		checkText(t, abc(), written(abc()), s+"abc"+s)
	}
	// What isn't read as signs is no other sign, and not itself one.
	list := "\x80 1\n\xef\xbf\xbd 2"
	for key, want := range map[string]string{"\x80": "1", "\ufffd": "2"} {
		if rest, ok := Line(list, key); rest != want || !ok {
			t.Errorf("Line of %q: %q, %t", key, rest, ok)
		}
	}
	for _, key := range []string{"\xff", "\x81", "\xef", "\xef\xbf", "\u0080"} {
		if rest, ok := Line(list, key); rest != "" || ok {
			t.Errorf("Line of %q: %q, %t", key, rest, ok)
		}
	}
	if rest, ok := Line("a \xff\x80", "a"); rest != "\xff\x80" || !ok {
		t.Errorf("a rest of no signs: %q, %t", rest, ok)
	}
}

func TestLongest(t *testing.T) {
	list := written(abc())
	for _, x := range []struct {
		s           string
		at, most, n int
	}{
		{"abc", 0, 9, 3},
		{"abcd", 0, 9, 3},
		{"abd", 0, 9, 3},
		{"abe", 0, 9, 2},
		{"ac", 0, 9, 1},
		{"a", 0, 9, 1},
		{"b", 0, 9, 1},
		{"bc", 0, 9, 1},
		{"bcd", 0, 9, 3},
		{"bcde", 0, 9, 3},
		{"c", 0, 9, 1},
		{"cab", 0, 9, 1},
		{"cab", 1, 9, 2},
		{"cab", 2, 9, 1},
		{"xabcd", 1, 9, 3},
		{"a b", 0, 9, 1},
		{"a\nb", 0, 9, 1},
		{"a 1", 0, 9, 1},
		{"ab 1 2", 0, 9, 2},
		{"a 1\nab", 0, 9, 1},
		// Keys stand there from at on, not behind it.
		{"xabc", 0, 9, 0},
		{" a", 0, 9, 0},
		{"\na", 0, 9, 0},
		{"1", 0, 9, 0},
		{"x  y ", 0, 9, 0},
		{"d", 0, 9, 0},
		{"A", 0, 9, 0},
		{"\x00a", 0, 9, 0},
		{"\xffa", 0, 9, 0},
		{" ", 0, 9, 0},
		{"\n", 0, 9, 0},
		{"", 0, 9, 0},
		// Places that aren't there, or have nothing behind them.
		{"abc", 3, 9, 0},
		{"abc", 4, 9, 0},
		{"abc", 99, 9, 0},
		{"abc", -1, 9, 0},
		{"abc", -3, 9, 0},
		{"abc", math.MaxInt, 9, 0},
		{"abc", math.MinInt, 9, 0},
		{"abc", math.MaxInt, math.MaxInt, 0},
		{"abc", math.MinInt, math.MinInt, 0},
		{"abc", math.MinInt, math.MaxInt, 0},
		{"abc", 1 << 32, 9, 0},
		{"abc", -1 << 32, 9, 0},
		{"", 1, 9, 0},
		{"", -1, 9, 0},
		// Up to most: less than a key's length, just that, more than all there is.
		{"abc", 0, math.MinInt, 0},
		{"abc", 0, -1, 0},
		{"abc", 0, 0, 0},
		{"abc", 0, 1, 1},
		{"abc", 0, 2, 2},
		{"abc", 0, 3, 3},
		{"abc", 0, 4, 3},
		{"abcd", 0, 4, 3},
		{"abc", 0, math.MaxInt, 3},
		{"abc", 0, math.MaxInt - 1, 3},
		{"abc", 0, 1 << 32, 3},
		{"abc", 0, 1<<32 + 1, 3},
		{"abc", 1, math.MaxInt, 1},
		{"abc", 2, math.MaxInt, 1},
		{"bcd", 0, 1, 1},
		{"bcd", 0, 2, 1},
		{"bcd", 0, 3, 3},
		{"xbcd", 1, 2, 1},
		{"xbcd", 1, 3, 3},
		{"xbcd", 1, 0, 0},
		{"xbcd", 1, -5, 0},
	} {
		if n := Longest(list, x.s, x.at, x.most); n != x.n {
			t.Errorf("Longest of %q, %d, %d: %d, want %d", x.s, x.at, x.most, n, x.n)
		}
	}
}

// Each key is the beginning of the next, with gaps between them.
func TestLongestOfKeysThatBeginEachOther(t *testing.T) {
	for _, lengths := range [][]int{{1, 2, 3, 4}, {1, 3, 6, 10}, {2, 5}, {4, 5, 9}, {7}, {1, 30}, {1, 2, 4, 8, 16, 32, 64}} {
		lines := nested(lengths...)
		list := written(lines)
		for n := range 70 {
			for _, end := range []string{"", "x", "a", "\x00", " ", "\n", "\xff"} {
				s := strings.Repeat("n", n) + end
				checkLine(t, lines, list, s)
				for most := range 70 {
					checkLongest(t, lines, list, s, 0, most)
					checkLongest(t, lines, list, "nn"+s, 2, most)
				}
				checkLongest(t, lines, list, s, 0, math.MaxInt)
				checkLongest(t, lines, list, s, 0, math.MinInt)
			}
		}
	}
}

// Between a text and the key that it begins with many others may stand, that are alike for some bytes only.
func TestLongestAheadOfWhichOtherKeysStand(t *testing.T) {
	keys := []string{"n"}
	for k := range 60 {
		keys = append(keys, strings.Repeat("n", k)+"a", strings.Repeat("n", k)+"m\xff", strings.Repeat("n", k)+"o")
	}
	for _, more := range [][]string{nil, {"nn"}, {"nnnnnnn"}, {"nn", strings.Repeat("n", 30)}, {strings.Repeat("n", 59)}} {
		lines := keyed(append(more, keys...)...)
		list := written(lines)
		for n := range 64 {
			for _, end := range []string{"", "b", "mz", "p", "\xff"} {
				s := strings.Repeat("n", n) + end
				for _, most := range []int{1, 2, 3, 8, n, n + 1, math.MaxInt} {
					checkLongest(t, lines, list, s, 0, most)
				}
			}
		}
	}
}

func TestAllShortTextsOfEachList(t *testing.T) {
	// Of bytes below the blank, of letters, and of bytes that are no signs.
	keys := []string{"\x01", "\x01a", "a", "a\x01", "aa", "aa\xff", "a\xffa", "\xff", "\xffa"}
	texts := textsUpTo("\x01a\xff \n", 3)
	for chosen := range 1 << len(keys) {
		var some []string
		for k, key := range keys {
			if chosen&(1<<k) != 0 {
				some = append(some, key)
			}
		}
		lines := keyed(some...)
		list := written(lines)
		for _, s := range texts {
			checkLine(t, lines, list, s)
			for _, most := range []int{1, 2, math.MaxInt} {
				checkLongest(t, lines, list, s, 0, most)
			}
		}
	}
}

func TestAllShortTexts(t *testing.T) {
	for _, lines := range [][]line{
		abc(), nil, keyed("a"), keyed("c"), keyed("abcd"), nested(1, 2, 4),
		keyed("a", "b", "c", "d"), keyed("aa", "ab", "ba", "bb"), keyed("ab", "abab", "ababab", "b"), keyed("\xff", "a\xff", "a\xffb"),
	} {
		list := written(lines)
		for _, s := range textsUpTo("abcd 1\n\xff", 4) {
			checkText(t, lines, list, s)
		}
		for _, s := range textsUpTo("abn", 6) {
			checkText(t, lines, list, s)
		}
	}
}

// P5.3: of all texts of a few bytes just so many are found as there are keys of these bytes, and those.
func TestJustTheKeysAreFound(t *testing.T) {
	for _, lines := range [][]line{abc(), keyed("d", "da", "dad", "dd", "a\xff"), keyed("\xff"), nil, keyed(textsUpTo("bd", 3)[1:]...)} {
		list := written(lines)
		var found []line
		for _, s := range textsUpTo("abcd \n\xff", 3) {
			if rest, ok := Line(list, s); ok {
				found = append(found, line{s, rest})
			}
		}
		slices.SortFunc(found, func(a, b line) int { return strings.Compare(a.key, b.key) })
		if !slices.Equal(found, lines) {
			t.Errorf("of %q: %q, want %q", list, found, lines)
		}
	}
}

// The list that the program is to search in is asked as a whole.
func TestAllNames(t *testing.T) {
	var lines []line
	for _, told := range strings.Split(api.Names, "\n") {
		key, rest, _ := strings.Cut(told, " ")
		lines = append(lines, line{key, rest})
	}
	if len(lines) != 2231 || written(lines) != api.Names {
		t.Fatalf("%d lines", len(lines))
	}
	for _, l := range lines {
		checkLine(t, lines, api.Names, l.key)
		for _, s := range []string{l.key, l.key + "x", l.key + ";", l.key[:len(l.key)-1]} {
			checkLine(t, lines, api.Names, s)
			checkLongest(t, lines, api.Names, s, 0, 32)
			checkLongest(t, lines, api.Names, "&"+s, 1, len(l.key)-1)
		}
	}
	if n := Longest(api.Names, "&notit;", 1, 32); n != 3 {
		t.Errorf("notit;: %d", n)
	}
}

// A long text is asked at each place, up to its end: what isn't alike with any key isn't gone through.
func TestLongestOfLongTexts(t *testing.T) {
	for _, lines := range [][]line{abc(), nested(1, 5, 40), keyed("m", "mm"), numbered(1000)} {
		list := written(lines)
		for _, s := range []string{strings.Repeat("n", 100000), strings.Repeat("abcabdbcd", 10000), strings.Repeat("k100500", 10000)} {
			for at := 0; at < len(s); at += 7 {
				if n, want := Longest(list, s, at, math.MaxInt), wantLongest(lines, s[at:min(at+50, len(s))], 0, 50); n != want {
					t.Fatalf("Longest(%q, %q, %d): %d, want %d", short(list), short(s), at, n, want)
				}
			}
		}
	}
}

// Long keys, one in each of which a byte is another.
func TestLongKeys(t *testing.T) {
	long := strings.Repeat("k", 3000)
	lines := keyed("k", long[:1500], long[:1500]+"j", long[:2999]+"l", long[:2999], long)
	list := written(lines)
	checkEachKey(t, lines)
	for _, s := range []string{long + long, long[:2998], long[:2998] + "l", long[:1499], long[:1501], long[:1500] + "jk", long[:1500] + "l", long[:2999] + "m"} {
		checkLine(t, lines, list, s)
		for _, most := range []int{1, 2, 1499, 1500, 1501, 2998, 2999, 3000, 3001, math.MaxInt} {
			checkLongest(t, lines, list, s, 0, most)
		}
	}
}

// Of texts that are no sorted lists nothing is promised; but each call ends.
func TestTextsThatAreNoLists(t *testing.T) {
	for _, list := range append(textsUpTo("ab \n", 6), "b 1\na 2", "a 1\na 2", "a 1\n", "\na 1", "no blank", strings.Repeat("\n", 1000), strings.Repeat(" ", 1000), strings.Repeat("a", 1000)) {
		for _, s := range []string{"", "a", "b", "ab", "aab", " ", "\n", "a b", "a\nb", "\xff"} {
			Line(list, s)
			if n := Longest(list, s, 0, math.MaxInt); n < 0 || n > len(s) {
				t.Errorf("Longest(%q, %q): %d", list, s, n)
			}
		}
	}
}

// asLines is a list of what stands in those bytes: texts that may be keys, each with what stands behind it.
func asLines(s string) []line {
	var lines []line
	for _, told := range strings.Split(s, "\n") {
		key, rest, _ := strings.Cut(told, " ")
		if key != "" {
			lines = append(lines, line{key, rest})
		}
	}
	slices.SortStableFunc(lines, func(a, b line) int { return strings.Compare(a.key, b.key) })
	return slices.CompactFunc(lines, func(a, b line) bool { return a.key == b.key })
}

func FuzzSearch(f *testing.F) {
	for _, list := range []string{"", "a 1", "ab 1\nabc 2", "b\na x y\nab", "\xff \xff\n\x01 \x00\na\x01", written(abc())} {
		f.Add(list, "xabcd", 1, 9)
		f.Add(list, "\xffab", 0, math.MaxInt)
	}
	f.Fuzz(func(t *testing.T, of, s string, at, most int) {
		lines := asLines(of)
		list := written(lines)
		checkLine(t, lines, list, s)
		checkLongest(t, lines, list, s, at, most)
		for n := range min(len(s), 20) {
			checkLine(t, lines, list, s[:n])
			checkLongest(t, lines, list, s, n, math.MaxInt)
		}
		for _, l := range lines {
			checkLine(t, lines, list, l.key)
			checkLongest(t, lines, list, l.key+s, 0, most)
		}
	})
}
