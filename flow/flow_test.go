package flow

import (
	"math"
	"regexp"
	"strconv"
	"strings"
	"testing"
)

// blanks is the five bytes that are blanks, and waiting those of them that wait as they are, where they are kept.
const (
	blanks  = "\t\n\f\r "
	waiting = "\t\f "
)

// short is s, or so much of it as a failing test may tell.
func short(s string) string {
	if len(s) > 200 {
		return strconv.Quote(s[:200]) + ".."
	}
	return strconv.Quote(s)
}

// step is one call: of Put, where puts is set; else of Break, where ends is; else of Line.
type step struct {
	puts, keep, ends bool
	text             string
	n                int
}

// loose is a Put that doesn't keep, kept one that does, and end a Break.
func loose(s string) step { return step{puts: true, text: s} }
func kept(s string) step  { return step{puts: true, keep: true, text: s} }
func end(n int) step      { return step{ends: true, n: n} }

// line is a Line.
var line = step{}

// do does the step with a flow.
func (x step) do(f *Flow) {
	switch {
	case x.puts:
		f.Put(x.text, x.keep)
	case x.ends:
		f.Break(x.n)
	default:
		f.Line()
	}
}

// show tells the step.
func (x step) show() string {
	switch {
	case x.puts && x.keep:
		return "kept " + short(x.text)
	case x.puts:
		return "loose " + short(x.text)
	case x.ends:
		return "Break " + strconv.Itoa(x.n)
	}
	return "Line"
}

// show tells steps.
func show(l []step) string {
	var told []string
	for _, x := range l {
		told = append(told, x.show())
	}
	if len(told) > 20 {
		told = append(told[:20], "..")
	}
	return strings.Join(told, ", ")
}

// act is what a step comes down to, byte by byte: a byte that is told ('t'), a blank that is kept ('k') or isn't ('l'), a Line ('e') or a Break ('b').
type act struct {
	what byte
	c    byte
	n    int
}

// acts is what steps come down to.
func acts(l []step) []act {
	var all []act
	for _, x := range l {
		switch {
		case x.puts:
			for _, c := range []byte(x.text) {
				all = append(all, ofByte(c, x.keep)...)
			}
		case x.ends:
			all = append(all, act{what: 'b', n: x.n})
		default:
			all = append(all, act{what: 'e'})
		}
	}
	return all
}

// ofByte is what Put of a byte comes down to.
func ofByte(c byte, keep bool) []act {
	switch {
	case c == 0:
		return nil
	case strings.IndexByte(blanks, c) < 0:
		return []act{{what: 't', c: c}}
	case !keep:
		return []act{{what: 'l'}}
	case c == 10 || c == 13:
		return []act{{what: 'e'}}
	}
	return []act{{what: 'k', c: c}}
}

// between is what is told between two bytes that are, of what was done there: all its lines' ends, and those blanks that stand behind the last step that ends a line. Of these one that isn't kept counts just where it is the first, and nothing ends a line there.
func between(gap []act) string {
	ends, last := 0, -1
	for k, x := range gap {
		switch {
		case x.what == 'e':
			ends, last = ends+1, k
		case x.what == 'b':
			last = k
			if n := min(x.n, 100); n > ends {
				ends = n
			}
		}
	}
	told := []byte(strings.Repeat("\n", ends))
	for k, x := range gap[last+1:] {
		if x.what == 'k' {
			told = append(told, x.c)
		} else if k == 0 && ends == 0 {
			told = append(told, 32)
		}
	}
	return string(told)
}

// wanted is what the chapter asks for when those steps are done with a new flow. It knows of nothing that waits: it looks at what stands between two bytes that are told.
func wanted(l []step) string {
	var told []byte
	var gap []act
	for _, x := range acts(l) {
		if x.what != 't' {
			gap = append(gap, x)
			continue
		}
		if len(told) > 0 {
			told = append(told, between(gap)...)
		}
		told, gap = append(told, x.c), nil
	}
	return string(told)
}

// tidy tells whether s is as P18.3 says that what is told is.
func tidy(s string) bool {
	return strings.Trim(s, blanks) == s && !strings.ContainsAny(s, "\x00\r")
}

// told is what a new flow tells when those steps were done with it.
func told(l []step) string {
	f := New()
	for _, x := range l {
		x.do(f)
	}
	return f.Text()
}

// is holds what is told against a text, and P18.3.
func is(t *testing.T, want string, l ...step) {
	t.Helper()
	got := told(l)
	if got != want {
		t.Errorf("%s: %s, want %s", show(l), short(got), short(want))
	}
	if !tidy(got) {
		t.Errorf("%s: %s isn't tidy", show(l), short(got))
	}
}

// check holds what is told against what the chapter asks for.
func check(t *testing.T, l ...step) {
	t.Helper()
	is(t, wanted(l), l...)
}

// eachList hands all lists of n of those steps to see, which doesn't keep them.
func eachList(of []step, n int, see func([]step)) {
	l := make([]step, n)
	var fill func(k int)
	fill = func(k int) {
		if k == n {
			see(l)
			return
		}
		for _, x := range of {
			l[k] = x
			fill(k + 1)
		}
	}
	fill(0)
}

// eachText hands all texts of n of those bytes to see.
func eachText(of string, n int, see func(string)) {
	if n == 0 {
		see("")
		return
	}
	eachText(of, n-1, func(ahead string) {
		for k := range len(of) {
			see(ahead + of[k:k+1])
		}
	})
}

// eachByte hands each byte, and a text of that byte alone, to see.
func eachByte(see func(c byte, s string)) {
	for c := range 256 {
		see(byte(c), string([]byte{byte(c)}))
	}
}

// nl is so many lines' ends.
func nl(n int) string { return strings.Repeat("\n", n) }

// odd is numbers that Break may be handed, some of them others in fewer bits, and what each of them asks for.
var odd = []struct{ n, want int }{
	{math.MinInt, 0}, {math.MinInt + 1, 0}, {math.MinInt + 5, 0}, {math.MinInt32, 0}, {-1<<32 + 5, 0}, {-1 << 16, 0}, {-257, 0}, {-251, 0}, {-101, 0}, {-100, 0}, {-5, 0}, {-2, 0}, {-1, 0},
	{0, 0}, {1, 1}, {2, 2}, {3, 3}, {50, 50}, {98, 98}, {99, 99}, {100, 100},
	{101, 100}, {102, 100}, {127, 100}, {128, 100}, {200, 100}, {255, 100}, {256, 100}, {257, 100}, {261, 100}, {1 << 16, 100}, {1<<16 + 5, 100}, {1 << 31, 100}, {1 << 32, 100}, {1<<32 + 5, 100}, {1 << 62, 100}, {math.MaxInt - 1, 100}, {math.MaxInt, 100},
}

func TestExamples(t *testing.T) {
	is(t, "a b", loose("a"), loose("  "), loose("b"))
	is(t, "a b", loose("a  b"))
	is(t, "x\n\ny", loose("x"), end(2), end(1), loose("y"))
	is(t, "", loose("  "))
	is(t, "a b\n\n\n\tc  d", loose(" a  b "), end(2), line, kept("\tc  d\n"))
}

func TestNewTellsNothing(t *testing.T) {
	f := New()
	if f == nil {
		t.Fatal("no flow")
	}
	for range 3 {
		if got := f.Text(); got != "" {
			t.Errorf("a new flow tells %s", short(got))
		}
	}
	// No line's end and no blanks wait: but for what is told first, they would be told ahead of the next byte.
	f.Put("a", false)
	f.Put("b", false)
	if got := f.Text(); got != "ab" {
		t.Errorf("%s, want ab", short(got))
	}
	for _, x := range []step{loose(""), kept(""), loose(" "), kept(" "), kept("\n"), loose("\x00"), end(0), end(2), end(-1), line} {
		is(t, "", x)
		is(t, "", x, x)
		is(t, "a", x, loose("a"))
		is(t, "a", loose("a"), x)
		is(t, "a", x, kept("a"), x)
	}
}

func TestTextChangesNothing(t *testing.T) {
	some := []step{loose("a"), loose(" "), kept("\t"), kept("\n"), end(0), end(2), line, loose("\x00")}
	eachList(some, 4, func(l []step) {
		f := New()
		var all, copies []string
		for k, x := range l {
			x.do(f)
			first := f.Text()
			if again := f.Text(); again != first {
				t.Fatalf("%s: %s, and then %s", show(l[:k+1]), short(first), short(again))
			}
			if want := wanted(l[:k+1]); first != want {
				t.Fatalf("%s: %s, want %s", show(l[:k+1]), short(first), short(want))
			}
			all, copies = append(all, first), append(copies, strings.Clone(first))
		}
		// What was told ahead stays what it was.
		for k := range all {
			if all[k] != copies[k] {
				t.Fatalf("%s: %s became %s", show(l[:k+1]), short(copies[k]), short(all[k]))
			}
		}
	})
	f := New()
	var all []string
	for range 1000 {
		f.Put("word ", false)
		all = append(all, f.Text())
	}
	for k, got := range all {
		if want := strings.Repeat("word ", k) + "word"; got != want {
			t.Fatalf("%d words: %s", k+1, short(got))
		}
	}
}

func TestBreak(t *testing.T) {
	for n := range 101 {
		is(t, "x"+nl(n)+"y", loose("x"), end(n), loose("y"))
		is(t, "x"+nl(n)+"y", kept("x"), end(n), kept("y"))
	}
	for _, x := range odd {
		between := nl(x.want)
		is(t, "x"+between+"y", loose("x"), end(x.n), loose("y"))
		is(t, "x"+between+"y", loose("x"), end(x.n), end(x.n), loose("y"))
		is(t, "x"+between+"y"+between+"z", loose("x"), end(x.n), loose("y"), end(x.n), loose("z"))
		// Ahead of what is told first, and behind what is told last.
		is(t, "y", end(x.n), loose("y"))
		is(t, "y", end(x.n), kept(" y"))
		is(t, "yz", end(x.n), loose("y"), loose("z"))
		is(t, "y", loose("y"), end(x.n))
		is(t, "", end(x.n))
	}
}

func TestBreakBehindBreak(t *testing.T) {
	for n := range 101 {
		for k := range 101 {
			is(t, "x"+nl(max(n, k))+"y", loose("x"), end(n), end(k), loose("y"))
		}
	}
	for _, x := range odd {
		for _, y := range odd {
			is(t, "x"+nl(max(x.want, y.want))+"y", loose("x"), end(x.n), end(y.n), loose("y"))
			is(t, "y", end(x.n), end(y.n), loose("y"))
			for _, z := range []int{-1, 0, 1, 2, 60, 100, 101} {
				most := max(x.want, y.want, min(z, 100))
				is(t, "x"+nl(most)+"y", loose("x"), end(x.n), end(z), end(y.n), loose("y"))
			}
		}
	}
	// With a text between, what waited ahead of it plays no part behind it.
	is(t, "x\n\n\n\n\ny\n\nz", loose("x"), end(5), loose("y"), end(2), loose("z"))
	is(t, "x\n\ny\n\n\n\n\nz", loose("x"), end(2), loose("y"), end(5), loose("z"))
	is(t, "x\n\n\n\n\nyz", loose("x"), end(5), loose("y"), loose("z"))
	// With a text between that tells nothing, it does.
	is(t, "x\n\n\n\n\ny", loose("x"), end(5), loose(""), end(2), kept("\x00"), loose("y"))
}

func TestBreakTakesBlanksAway(t *testing.T) {
	for _, x := range odd {
		between := nl(x.want)
		for _, ahead := range []step{loose(" "), loose("\n"), loose("\r\n\t"), kept(" "), kept("\t"), kept("\f"), kept(" \t\f ")} {
			is(t, "x"+between+"y", loose("x"), ahead, end(x.n), loose("y"))
			is(t, "x"+between+"y", loose("x"), ahead, ahead, end(x.n), loose("y"))
			is(t, "x"+between+"y", loose("x"), end(x.n), ahead, end(x.n), loose("y"))
		}
		// Those behind it stay, or not, as ever.
		is(t, "x"+between+"\ty", loose("x"), kept("  "), end(x.n), kept("\ty"))
		if x.want == 0 {
			is(t, "x y", loose("x "), end(x.n), loose(" y"))
		} else {
			is(t, "x"+between+"y", loose("x "), end(x.n), loose(" y"))
		}
	}
	is(t, "xy", loose("x "), end(0), loose("y"))
	is(t, "xy", kept("x \t"), end(0), kept("y"))
	is(t, "x\n\ny", loose("x"), end(2), kept("  "), end(1), loose("y"))
	is(t, "x\n\ny", loose("x"), end(2), kept("  "), end(0), loose("y"))
	is(t, "x\n\ny", loose("x"), end(2), kept("  "), end(-1), loose("y"))
}

// lines is a Line so often.
func lines(n int) []step { return make([]step, n) }

func TestLine(t *testing.T) {
	for _, n := range []int{0, 1, 2, 3, 50, 99, 100, 101, 102, 127, 128, 200, 255, 256, 257, 300, 1000, 65535, 65536, 65537, 100000} {
		is(t, "x"+nl(n)+"y", append(append([]step{loose("x")}, lines(n)...), loose("y"))...)
		is(t, "y", append(lines(n), loose("y"))...)
		is(t, "yz", append(lines(n), loose("y"), loose("z"))...)
		is(t, "x", append([]step{loose("x")}, lines(n)...)...)
		for _, x := range odd {
			// Behind a Break, and ahead of one.
			is(t, "x"+nl(x.want+n)+"y", append(append([]step{loose("x"), end(x.n)}, lines(n)...), loose("y"))...)
			is(t, "x"+nl(max(n, x.want))+"y", append(append([]step{loose("x")}, lines(n)...), end(x.n), loose("y"))...)
			is(t, "x"+nl(max(n, x.want)+1)+"y", append(append([]step{loose("x")}, lines(n)...), end(x.n), line, loose("y"))...)
		}
	}
	// It takes blanks away, and those behind it stay where they are kept.
	for _, ahead := range []step{loose(" "), loose("\n"), kept(" "), kept("\t"), kept("\f"), kept(" \t\f ")} {
		is(t, "x\ny", loose("x"), ahead, line, loose("y"))
		is(t, "x\n\ny", loose("x"), line, ahead, line, loose("y"))
		is(t, "x\n\n\t y", loose("x"), line, ahead, line, kept("\t "), loose("y"))
	}
	is(t, "x\ny\nz", loose("x"), line, loose("y"), line, loose("z"))
}

func TestEachByte(t *testing.T) {
	eachByte(func(c byte, s string) {
		for _, put := range []step{loose(s), kept(s)} {
			check(t, put)
			check(t, put, put)
			check(t, put, loose("a"))
			check(t, loose("a"), put)
			check(t, loose("a"), put, loose("b"))
			check(t, loose("a"), put, put, loose("b"))
			check(t, loose("a"), put, line, loose("b"))
			check(t, loose("a"), put, end(0), loose("b"))
			for _, ahead := range []step{loose(" "), loose("\n"), kept(" "), kept("\t"), kept("\n"), kept("\r"), kept("  \f"), kept("\n "), end(0), end(1), end(2), end(100), line, loose("\x00"), loose("")} {
				check(t, ahead, put, loose("b"))
				check(t, loose("a"), ahead, put)
				check(t, loose("a"), ahead, put, loose("b"))
				check(t, loose("a"), put, ahead, loose("b"))
				check(t, loose("a"), ahead, put, ahead, loose("b"))
			}
		}
		switch {
		case c == 0:
			is(t, "ab", loose("a"+s+"b"))
			is(t, "ab", kept("a"+s+"b"))
		case strings.IndexByte(blanks, c) < 0:
			for _, put := range []step{loose(s), kept(s)} {
				is(t, s, put)
				is(t, s+s, put, put)
				is(t, "a"+s+"b", loose("a"), put, loose("b"))
				is(t, "a "+s+"b", loose("a "), put, loose("b"))
				is(t, "a\n\n"+s+" b", loose("a"), end(2), put, loose(" b"))
				is(t, "a\n \t"+s+"\nb", loose("a"), kept("\n \t"), put, line, loose("b"))
			}
		}
	})
}

func TestEachPairOfBytes(t *testing.T) {
	eachByte(func(_ byte, s string) {
		eachByte(func(_ byte, z string) {
			check(t, loose(s+z))
			check(t, kept(s+z))
			check(t, loose("a"+s+z+"b"))
			check(t, kept("a"+s+z+"b"))
			check(t, loose("a"+s), kept(z+"b"))
			check(t, kept("a"+s), loose(z+"b"))
		})
	})
}

func TestByteZero(t *testing.T) {
	const zero = "\x00"
	for _, put := range []func(string) step{loose, kept} {
		is(t, "", put(zero))
		is(t, "", put(strings.Repeat(zero, 300)))
		is(t, "ab", put(zero+"a"+zero+zero+"b"+zero))
		for _, x := range []struct {
			between []step
			want    string
		}{
			{[]step{loose(" ")}, " "}, {[]step{loose("\n"), loose("\t")}, " "}, {[]step{kept(" "), kept("\t")}, " \t"}, {[]step{kept("\n"), kept("\t")}, "\n\t"}, {[]step{end(2), end(1)}, "\n\n"}, {[]step{line, line}, "\n\n"}, {[]step{loose(" "), kept(" ")}, "  "}, {[]step{kept("\t"), loose(" ")}, "\t"}, {[]step{loose(" "), end(0)}, ""},
		} {
			l := []step{put("a" + zero), put(zero)}
			for _, y := range x.between {
				l = append(l, put(zero), y, put(zero+zero))
			}
			is(t, "a"+x.want+"b", append(l, put(zero+"b"+zero))...)
		}
	}
	// It is no byte that is told: nothing is told at the beginning, yet.
	is(t, "a", loose(zero+" "), line, kept(zero+"\n a"))
}

func TestBlanksThatAreNotKept(t *testing.T) {
	for n := range 6 {
		eachText(blanks, n, func(b string) {
			want := " "
			if b == "" {
				want = ""
			}
			is(t, "", loose(b))
			is(t, "a", loose(b+"a"))
			is(t, "a", loose("a"+b))
			is(t, "a"+want+"c", loose("a"+b+"c"))
			is(t, "a"+want+"c"+want+"d", loose(b+"a"+b+"c"+b+"d"+b))
			is(t, "a"+want+"c", loose("a"), loose(b), loose(b), loose("c"))
			// Behind a line's end that waits none does; ahead of one it is gone.
			is(t, "a\nc", loose("a"), end(1), loose(b+"c"))
			is(t, "a\n\nc", loose("a"), line, loose(b), line, loose(b+"c"))
			is(t, "a\n\nc", loose("a"+b), end(2), loose(b), end(1), loose(b+"c"))
			is(t, "a\nc", kept("a\n"), loose(b+"c"))
			is(t, "a"+want+"c", loose("a"), end(0), loose(b+"c"))
		})
	}
	for _, c := range []string{" ", "\t", "\n", "\f", "\r", "\r\n"} {
		for _, n := range []int{1, 2, 255, 256, 257, 1000} {
			b := strings.Repeat(c, n)
			is(t, "a c", loose(b+"a"+b+"c"+b))
			is(t, "a\nc", loose("a"+b), line, loose(b+"c"+b))
		}
	}
}

func TestBlanksThatAreKept(t *testing.T) {
	for n := range 6 {
		eachText(waiting, n, func(b string) {
			is(t, "", kept(b))
			is(t, "a", kept(b+"a"))
			is(t, "a", kept("a"+b))
			is(t, "a"+b+"c", kept("a"+b+"c"))
			is(t, "a"+b+b+"c", kept("a"), kept(b), kept(b), loose("c"))
			// Behind a line's end they wait behind it; ahead of one they are gone.
			is(t, "a\n"+b+"c", loose("a"), end(1), kept(b+"c"))
			is(t, "a\n"+b+"c", kept("a\n"+b+"c"))
			is(t, "a\nc", kept("a"+b+"\nc"))
			is(t, "a\nc", kept("a"+b), end(1), loose("c"))
			is(t, "a\n\n"+b+"c", kept("a"+b+"\n"+b+"\r"+b+"c"))
			is(t, "a\n\n"+b+"c", kept("a"+b), end(2), kept(b), end(1), kept(b+"c"))
			is(t, "a"+b+"c", kept("a"+b), end(0), kept(b), loose("c"))
		})
	}
	for _, c := range []string{"\n", "\r"} {
		for _, n := range []int{1, 2, 99, 100, 101, 255, 256, 257, 1000} {
			is(t, "a"+nl(n)+"c", kept(strings.Repeat(c, n)+"a"+strings.Repeat(c, n)+"c"+strings.Repeat(c, n)))
			is(t, "a"+nl(n)+"c", kept("a"+strings.Repeat(" \t"+c, n)+"c"))
		}
	}
	// 13 and 10 are two: a text whose lines' ends are normed has none of the first.
	is(t, "a\n\nc", kept("a\r\nc"))
	is(t, "a\n\n\n\nc", kept("a\r\n\n\rc"))
}

func TestKeptAndNot(t *testing.T) {
	is(t, "a  b", loose("a "), kept(" b"))
	is(t, "a \tb", loose("a\n"), kept("\tb"))
	is(t, "a b", kept("a "), loose(" b"))
	is(t, "a\tb", kept("a\t"), loose("\n b"))
	is(t, "a \t \fb", loose("a \n"), kept("\t "), loose("  "), kept("\fb"))
	is(t, "a\nb", loose("a "), kept("\n"), loose(" b"))
	is(t, "a\n b", loose("a "), kept("\n "), loose(" b"))
	is(t, "a\n b", loose("a "), kept("\n"), loose(" "), kept(" b"))
	is(t, "a\n\n b", loose("a"), end(2), loose(" "), kept(" "), loose(" b"))
	is(t, "a \fb", loose("a"), end(0), loose("\f\f"), kept("\f"), loose("b"))
	for n := range 4 {
		eachText(blanks, n, func(first string) {
			for k := range 4 {
				eachText(blanks, k, func(second string) {
					check(t, loose("a"+first), kept(second+"b"))
					check(t, kept("a"+first), loose(second+"b"))
					check(t, loose("a"), end(1), loose(first), kept(second), loose("b"))
					check(t, loose("a"), end(1), kept(first), loose(second), kept("b"))
					check(t, loose(first), kept(second+"b"))
				})
			}
		})
	}
}

func TestOtherBytesAreNoBlanks(t *testing.T) {
	// Signs that are blanks elsewhere, and bytes that are no signs.
	for _, s := range []string{
		"\x01", "\x08", "\x0b", "\x0e", "\x1c", "\x1d", "\x1e", "\x1f", "\x7f", "\x80", "\x85", "\x89", "\x8a", "\x8c", "\x8d", "\xa0", "\xbf", "\xc0", "\xc2", "\xc0\x80", "\xe2\x82", "\xed\xa0\x80", "\xf0\x9f\x98", "\xf4\x90\x80\x80", "\xfe", "\xff", "\xff\xff",
		"\u0080", "\u0085", "\u00a0", "\u00e4", "\u0100", "\u0120", "\u010a", "\u010d", "\u0109", "\u1680", "\u2000", "\u2003", "\u2028", "\u2029", "\u200b", "\u202f", "\u205f", "\u3000", "\ufeff", "\ufffd", "\U0001f600", "\U0010ffff",
		"&", "&#32;", "&nbsp;", "<", "<br>", "\\n", "\\", "\"", "'", "%20", "+", "0", "10",
	} {
		for _, put := range []func(string) step{loose, kept} {
			is(t, s, put(s))
			is(t, s+s, put(s), put(s))
			is(t, s+" "+s, put(" "+s+" "+s+" "))
			is(t, s+"\n\n"+s, put(s), end(2), put(s), end(2))
			is(t, "a"+s+"b", put("a"+s+"b"))
			is(t, "a "+s+" b", put("a "+s+" b"))
		}
		is(t, s+"\n\t"+s, kept("\n"+s+" \n\t"+s+"\t"))
	}
}

func TestEachListOfSteps(t *testing.T) {
	some := []step{loose("a"), loose(" "), loose("\n"), kept("b"), kept(" "), kept("\t"), kept("\n"), kept("\r"), loose("\x00"), end(0), end(1), end(2), end(3), line}
	for n := range 5 {
		eachList(some, n, func(l []step) { check(t, l...) })
	}
	few := []step{loose("a"), loose("\n"), kept("\t"), kept("\n"), end(0), end(2), line}
	for n := range 8 {
		eachList(few, n, func(l []step) {
			if got, want := told(l), wanted(l); got != want || !tidy(got) {
				t.Errorf("%s: %s, want %s", show(l), short(got), short(want))
			}
		})
	}
}

func TestTexts(t *testing.T) {
	gone := regexp.MustCompile(`[\t\f ]+\n`)
	for n := range 8 {
		eachText("a\x00 \t\n\r", n, func(s string) {
			said := strings.ReplaceAll(s, "\x00", "")
			is(t, strings.Join(strings.FieldsFunc(said, func(c rune) bool { return strings.ContainsRune(blanks, c) }), " "), loose(s))
			ended := strings.Trim(strings.ReplaceAll(said, "\r", "\n"), blanks)
			is(t, gone.ReplaceAllString(ended, "\n"), kept(s))
		})
	}
}

func TestCutAnywhere(t *testing.T) {
	for _, s := range []string{
		"", "a", " ", "\x00", "  a  b\n\n  c \t", "\r\n a \r\n\f\x00\tb\x00\x00 c\n", "a\x00b", "\x00 a", "\xe2\x82\xac \xf0\x9f\x98\x80\n\xff\xfe \xc2", "one  two\n\n\n\tthree ", "\n\n\n", " \t\f ",
	} {
		for _, put := range []func(string) step{loose, kept} {
			for _, frame := range [][2][]step{{nil, nil}, {{loose("x")}, {loose("y")}}, {{loose("x"), end(2)}, {line, loose("y")}}, {{kept("x\t")}, {kept(" y")}}, {{loose("x ")}, {end(0), loose("y")}}} {
				whole := func(middle ...step) []step {
					return append(append(append([]step(nil), frame[0]...), middle...), frame[1]...)
				}
				want := wanted(whole(put(s)))
				is(t, want, whole(put(s))...)
				for k := range len(s) + 1 {
					is(t, want, whole(put(s[:k]), put(s[k:]))...)
					for m := range k + 1 {
						is(t, want, whole(put(s[:m]), put(s[m:k]), put(""), put(s[k:]))...)
					}
				}
				var single []step
				for k := range len(s) {
					single = append(single, put(s[k:k+1]))
				}
				is(t, want, whole(single...)...)
			}
		}
	}
}

func TestEmptyTexts(t *testing.T) {
	for _, nothing := range []step{loose(""), kept("")} {
		is(t, "", nothing)
		is(t, "", nothing, nothing)
		is(t, "ab", nothing, loose("a"), nothing, loose("b"), nothing)
		is(t, "a b", loose("a "), nothing, loose("b"))
		is(t, "a\tb", kept("a\t"), nothing, kept("b"))
		is(t, "a\n\nb", loose("a"), end(2), nothing, loose("b"))
		is(t, "a\n\nb", loose("a"), line, nothing, line, loose("b"))
		is(t, "b", line, nothing, loose("b"))
	}
}

func TestLongTexts(t *testing.T) {
	const n = 1 << 18
	is(t, strings.Repeat("word ", n)+"end", loose(strings.Repeat("\n word \t", n)+"end"))
	is(t, strings.Repeat("a", 8*n), loose(strings.Repeat("a", 4*n)), kept(strings.Repeat("a", 4*n)))
	is(t, strings.Repeat("\xff", 8*n), loose(strings.Repeat("\xff", 8*n)))
	is(t, "ab", loose("a"+strings.Repeat("\x00", 8*n)+"b"))
	is(t, "a b", loose(strings.Repeat(" ", 8*n)+"a"+strings.Repeat("\r\n\t", 4*n)+"b"+strings.Repeat("\n", 8*n)))
	is(t, "a"+strings.Repeat(" \t", 4*n)+"b", kept(strings.Repeat(" ", 8*n)+"a"+strings.Repeat(" \t", 4*n)+"b"+strings.Repeat(" ", 8*n)))
	is(t, "a"+nl(4*n)+"b", kept("a"+strings.Repeat(" \n", 4*n)+"b"))
	is(t, "a"+nl(8*n)+"b", kept(strings.Repeat("\r", 8*n)+"a"+strings.Repeat("\n", 8*n)+"b"+strings.Repeat("\n", 8*n)))
	is(t, "a\nb", kept("a"+strings.Repeat(" ", 8*n)+"\nb"))
	is(t, "a", kept("a"+strings.Repeat(" ", 8*n)), end(math.MaxInt))
	f := New()
	var want strings.Builder
	for k := range n {
		// Text is asked each time: it takes no longer for what is told ahead.
		f.Put(" a ", k%2 == 0)
		f.Break(k % 4)
		if k > 0 {
			want.WriteString([]string{" ", "\n ", "\n\n", "\n\n\n "}[(k+3)%4])
		}
		want.WriteString("a")
		if len(f.Text()) != want.Len() {
			t.Fatalf("%d: %d bytes, want %d", k, len(f.Text()), want.Len())
		}
	}
	if f.Text() != want.String() {
		t.Errorf("%s, want %s", short(f.Text()), short(want.String()))
	}
}

func TestTwoFlows(t *testing.T) {
	some := []step{loose("a"), loose(" "), kept("\t"), kept("\nb"), end(2), line}
	eachList(some, 3, func(l []step) {
		first := append([]step(nil), l...)
		eachList(some, 3, func(second []step) {
			f, g := New(), New()
			for k := range 3 {
				first[k].do(f)
				second[k].do(g)
				if got, want := f.Text(), wanted(first[:k+1]); got != want {
					t.Fatalf("%s beside %s: %s, want %s", show(first[:k+1]), show(second[:k+1]), short(got), short(want))
				}
				if got, want := g.Text(), wanted(second[:k+1]); got != want {
					t.Fatalf("%s beside %s: %s, want %s", show(second[:k+1]), show(first[:k+1]), short(got), short(want))
				}
			}
			f.Put("z", false)
			if got, want := f.Text(), wanted(append(append([]step(nil), first...), loose("z"))); got != want {
				t.Fatalf("%s, z: %s, want %s", show(first), short(got), short(want))
			}
			if got, want := g.Text(), wanted(second); got != want {
				t.Fatalf("%s: %s, want %s", show(second), short(got), short(want))
			}
		})
	})
	if New() == New() {
		t.Error("two new flows are one")
	}
	// One that tells much leaves nothing for one that is new.
	f := New()
	f.Put("a"+strings.Repeat(" b", 1000), true)
	f.Break(50)
	f.Put("\t\t", true)
	if got := New().Text(); got != "" {
		t.Errorf("a new flow tells %s", short(got))
	}
	is(t, "xy", loose("x"), loose("y"))
}

func TestTheSameEachTime(t *testing.T) {
	l := []step{kept("\n a"), loose(" \n"), kept("\tb"), end(3), line, loose(" c\x00"), kept(" "), end(0), loose("d"), line, end(2), kept("\f\xff "), loose("\r")}
	const want = "a \tb\n\n\n\ncd\n\n\f\xff"
	for range 200 {
		is(t, want, l...)
	}
	check(t, l...)
}

// TestTidy holds what is told against P18.3, whatever was done: with what ends it, and what stands ahead of it, of each kind.
func TestTidy(t *testing.T) {
	for n := range 6 {
		eachText("\x00\t\n\f\r ", n, func(s string) {
			for _, word := range []string{"", "w"} {
				is(t, word, loose(s), loose(word), loose(s))
				is(t, word, kept(s), loose(word), kept(s))
				is(t, word, kept(s), line, end(2), kept(s+word), end(1), kept(s))
				is(t, word, loose(s), end(100), loose(s), kept(s+word+s), line, loose(s))
			}
		})
	}
}

// FuzzFlow reads bytes as steps: of each two, what is done, and with what.
func FuzzFlow(f *testing.F) {
	for _, s := range []string{"", "0a", "0a0 0b", "1a1 1\n1b", "0a2\x022\x010b", "0a30a", "0a1\t2\x000b", "0\x000a1\r", "0\xff1\xc2"} {
		f.Add(s, "a  b")
	}
	f.Fuzz(func(t *testing.T, s, text string) {
		var l []step
		for k := 0; k+1 < len(s); k += 2 {
			part := s[k+1 : k+2]
			switch s[k] % 5 {
			case 0:
				l = append(l, loose(part))
			case 1:
				l = append(l, kept(part))
			case 2:
				l = append(l, end(int(int8(part[0]))))
			case 3:
				l = append(l, line)
			case 4:
				l = append(l, []step{loose(text), kept(text)}[part[0]%2])
			}
		}
		check(t, l...)
		check(t, loose(text))
		check(t, kept(text))
		check(t, append(l, loose(text))...)
		check(t, append(l, kept(text))...)
	})
}
