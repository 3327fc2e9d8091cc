package script

import (
	"math"
	"regexp"
	"strings"
	"testing"

	"flail/raw"
)

// bad is the sign 65533 by its bytes, so that the tests hang on no other package's word for it.
const bad = "\xef\xbf\xbd"

// closers is what ends the name of a tag, put down one by one, so that the tests share no rule with the program.
const closers = "\t\n\f />"

// states is what a program may be within, by the numbers that the chapter's list gives them.
const (
	inNone  = 0
	inOne   = 1
	inTwice = 2
)

// short is s, or so much of it as a failing test may tell.
func short(s string) string {
	if len(s) > 100 {
		return s[:100] + ".."
	}
	return s
}

// inside is at, or the place of s that it counts as.
func inside(s string, at int) int {
	switch {
	case at < 0:
		return 0
	case at > len(s):
		return len(s)
	}
	return at
}

// farAway is places that no text has.
func farAway() []int {
	return []int{math.MinInt, math.MinInt + 1, math.MinInt + 2, math.MinInt32, -1 << 32, -1<<32 + 1, -33, 1 << 31, 1 << 32, 1<<32 + 1, math.MaxInt - 9, math.MaxInt - 8, math.MaxInt - 7, math.MaxInt - 3, math.MaxInt - 2, math.MaxInt - 1, math.MaxInt}
}

// eachText hands all texts of n of those parts to see.
func eachText(of []string, n int, see func(string)) {
	if n == 0 {
		see("")
		return
	}
	eachText(of, n-1, func(ahead string) {
		for _, part := range of {
			see(ahead + part)
		}
	})
}

// eachByte is each byte, as a text of its own.
func eachByte() []string {
	var told []string
	for c := range 256 {
		told = append(told, string([]byte{byte(c)}))
	}
	return told
}

// eachCase is a word in each mixture of large letters and small ones.
func eachCase(word string) []string {
	told := []string{""}
	for _, c := range strings.Split(word, "") {
		var longer []string
		for _, ahead := range told {
			longer = append(longer, ahead+strings.ToLower(c), ahead+strings.ToUpper(c))
		}
		told = longer
	}
	return told
}

// low is a byte as a text, a letter as its small one.
func low(c byte) string {
	if k := strings.IndexByte("ABCDEFGHIJKLMNOPQRSTUVWXYZ", c); k >= 0 {
		return "abcdefghijklmnopqrstuvwxyz"[k : k+1]
	}
	return string([]byte{c})
}

// steps is a machine that takes a program byte by byte and never goes back: what it knows of the bytes that it took is how far a mark has come that may go on.
type steps struct {
	state   int
	mark    string // what of a mark there is, lowered
	begun   int    // where that mark begins
	strokes int    // how many there are just ahead; more than two are two
}

// take takes a byte, and tells whether the program ended, where the mark began.
func (m *steps) take(c byte, at int) bool {
	if whole, ended := m.closed(c); whole {
		return ended
	}
	if m.mark != "" && m.goesOn(m.mark+low(c)) {
		return false
	}
	m.mark = ""
	m.stroked(c)
	if c == '<' {
		m.mark, m.begun = "<", at
	}
	return false
}

// closed takes a byte that may make a mark whole, and tells whether it did, and whether that ended the program.
func (m *steps) closed(c byte) (whole, ended bool) {
	if !strings.Contains(closers, low(c)) {
		return false, false
	}
	switch {
	case m.mark == "</script" && m.state != inTwice:
		return true, true
	case m.mark == "</script":
		m.state = inOne
	case m.mark == "<script" && m.state == inOne:
		m.state = inTwice
	default:
		return false, false
	}
	m.mark, m.strokes = "", 0
	return true, false
}

// goesOn takes what a mark may become, and tells whether it did.
func (m *steps) goesOn(longer string) bool {
	switch {
	case m.state == inNone && longer == "<!--":
		m.state, m.strokes, m.mark = inOne, 2, ""
	case m.state == inNone && strings.HasPrefix("<!--", longer), strings.HasPrefix("</script", longer), strings.HasPrefix("<script", longer):
		m.mark, m.strokes = longer, 0
	default:
		return false
	}
	return true
}

// stroked takes a byte that is of no mark that has begun.
func (m *steps) stroked(c byte) {
	switch {
	case m.state == inNone:
		return
	case c == '-':
		m.strokes = min(2, m.strokes+1)
		return
	case c == '>' && m.strokes == 2:
		m.state = inNone
	}
	m.strokes = 0
}

// wantFind is what the chapter asks of Find.
func wantFind(s string, at int) (next, state int) {
	var m steps
	for place := inside(s, at); place < len(s); place++ {
		if m.take(s[place], place) {
			return m.begun, m.state
		}
	}
	return len(s), m.state
}

// words is the chapter's words as expressions: what changes a state, or ends the program, one for each of the three.
type words [3]*regexp.Regexp

// inWords is these expressions.
func inWords() words {
	const word = "[sS][cC][rR][iI][pP][tT][\t\n\f />]"
	return words{regexp.MustCompile("<!--|</" + word), regexp.MustCompile("-->|</?" + word), regexp.MustCompile("-->|</" + word)}
}

// find is Find, in words.
func (w words) find(s string, at int) (next, state int) {
	at = inside(s, at)
	for {
		m := w[state].FindStringIndex(s[at:])
		if m == nil {
			return len(s), state
		}
		mark := s[at+m[0] : at+m[1]]
		switch {
		case mark == "<!--":
			// Its strokes are looked at again, as an end's.
			state, at = inOne, at+m[0]+2
			continue
		case mark == "-->":
			state = inNone
		case mark[1] != '/':
			state = inTwice
		case state == inTwice:
			state = inOne
		default:
			return at + m[0], state
		}
		at += m[1]
	}
}

// checkAt checks Find at one place of s.
func checkAt(t *testing.T, s string, at int) {
	t.Helper()
	next, state := Find(s, at)
	if want, wantState := wantFind(s, at); next != want || state != wantState {
		t.Errorf("Find(%q, %d): %d, %d, want %d, %d", short(s), at, next, state, want, wantState)
	}
}

// checkWords checks Find at one place of s against the chapter's words.
func checkWords(t *testing.T, w words, s string, at int) {
	t.Helper()
	next, state := Find(s, at)
	if want, wantState := w.find(s, at); next != want || state != wantState {
		t.Errorf("Find(%q, %d): %d, %d, in words %d, %d", short(s), at, next, state, want, wantState)
	}
}

// checkRaw checks what follows of Find (P13.2): without a comment it is chapter 12's; one behind the end is none.
func checkRaw(t *testing.T, s string, at int) {
	t.Helper()
	next, state := Find(s, at)
	if strings.Contains(s[inside(s, at):max(inside(s, at), next)], "<!--") {
		return
	}
	if want := raw.Find(s, at, "script"); next != want || state != Plain {
		t.Errorf("Find(%q, %d): %d, %d, without a comment ahead of that; of its raw text %d", short(s), at, next, state, want)
	}
}

// checkAhead checks that what stands ahead of a place plays no part, and that what stands behind an end doesn't, either.
func checkAhead(t *testing.T, s string, at int) {
	t.Helper()
	next, state := Find(s, at)
	from := inside(s, at)
	if next < from || next > len(s) || state < 0 || state > 2 {
		t.Fatalf("Find(%q, %d): %d, %d", short(s), at, next, state)
	}
	if n, again := Find(s[from:], 0); n+from != next || again != state {
		t.Errorf("Find(%q, %d): %d, %d, of what stands there alone %d, %d", short(s), at, next, state, n+from, again)
	}
	if next == len(s) {
		return
	}
	if state == Twice || !raw.Ends(s, next, "script") {
		t.Errorf("Find(%q, %d): %d, %d, where it doesn't end", short(s), at, next, state)
	}
	if n, again := Find(s[:next], at); n != next || again != state {
		t.Errorf("Find(%q, %d): %d, %d, without its end %d, %d", short(s), at, next, state, n, again)
	}
	if n, again := Find(s[:next+9], at); n != next || again != state {
		t.Errorf("Find(%q, %d): %d, %d, with its end alone %d, %d", short(s), at, next, state, n, again)
	}
}

// check checks Find at each place of s, and beside them.
func check(t *testing.T, s string) {
	t.Helper()
	w := inWords()
	for at := -3; at <= len(s)+3; at++ {
		checkAt(t, s, at)
		checkWords(t, w, s, at)
		checkRaw(t, s, at)
		checkAhead(t, s, at)
	}
	for _, at := range farAway() {
		checkAt(t, s, at)
		checkRaw(t, s, at)
		checkAhead(t, s, at)
	}
}

// checkFind checks what Find tells of s from its beginning on.
func checkFind(t *testing.T, s string, next, state int) {
	t.Helper()
	if n, told := Find(s, 0); n != next || told != state {
		t.Errorf("Find(%q, 0): %d, %d, want %d, %d", short(s), n, told, next, state)
	}
	check(t, s)
}

func TestNumbers(t *testing.T) {
	if Plain != 0 || Escaped != 1 || Twice != 2 {
		t.Error(Plain, Escaped, Twice)
	}
}

func TestPlacesThatAreNotThere(t *testing.T) {
	for _, x := range []struct {
		s           string
		next, state int
	}{
		{"", 0, Plain}, {"a", 1, Plain}, {"</script>", 0, Plain}, {"a</script>", 1, Plain}, {"<!--", 4, Escaped}, {"<!--<script>", 12, Twice}, {"<!--</script>", 4, Escaped}, {"\x00", 1, Plain}, {"<!--<script></script></script>", 21, Escaped},
	} {
		for _, at := range append(farAway(), -9, -3, -2, -1, 0) {
			if next, state := Find(x.s, at); at <= 0 && (next != x.next || state != x.state) {
				t.Errorf("Find(%q, %d): %d, %d, want %d, %d", x.s, at, next, state, x.next, x.state)
			} else if at > len(x.s) && (next != len(x.s) || state != Plain) {
				t.Errorf("Find(%q, %d): %d, %d", x.s, at, next, state)
			}
		}
		for _, beyond := range []int{0, 1, 2, 8, 9, 10, 99} {
			if next, state := Find(x.s, len(x.s)+beyond); next != len(x.s) || state != Plain {
				t.Errorf("Find(%q, %d): %d, %d", x.s, len(x.s)+beyond, next, state)
			}
		}
		check(t, x.s)
	}
}

// openings is texts that leave a program in each of the three states, and are nothing to an end behind them.
func openings() [3][]string {
	return [3][]string{
		{"", "a", "<", "</", "</script", "<script>", "<script ", "</scripty>", "<!", "<!-", "<!- -", "-", "--", "-->", ">", "<!-->", "<!--->", "<!---->", "<!-- -->", "<!--a-->", "<!--<script>-->", "<!--<script></script>-->", "<!--<script></script><script>-->", "\x00\xff", "\n"},
		{"<!--", "<!---", "<!--a", "a<!--", "<!-->a<!--", "<!--a-", "<!--a--", "<!--a->", "<!-- >", "<!--\x00>", "<!--<", "<!--</", "<!--</script", "<!--<script", "<!--<scripts>", "<!--</scripts>", "<!--<script></script>", "<!--<SCRIPT/</Script ", "<!--<script></script>>", "<!--<script></script>-", "<!--<script></script>--", "<!--a><!--", "<!--<!-"},
		{"<!--<script>", "<!--<script ", "<!--<script/", "<!--<Script\n", "<!--a<script>a", "<!--<script>--", "<!--<script>->", "<!--<script>-a->", "<!--<script>>", "<!--<script></", "<!--<script></script", "<!--<script></scripts>", "<!--<script><script>", "<!--<script></script><script>", "<!--<script><!--", "<!--<script>--><!--<script>", "<!--<script>\x00"},
	}
}

func TestEndsOfATextInEachState(t *testing.T) {
	for state := range 3 {
		for _, s := range openings()[state] {
			checkFind(t, s, len(s), state)
		}
	}
}

func TestPlainEnds(t *testing.T) {
	for _, ahead := range openings()[Plain] {
		for _, c := range eachByte() {
			s := ahead + "</script" + c
			next, state := Find(s, 0)
			ends := strings.Contains(closers, c)
			if state != Plain || ends && next != len(ahead) || !ends && next != len(s) {
				t.Errorf("Find(%q, 0): %d, %d", s, next, state)
			}
			checkAt(t, s+"<!--<script></script></script>", 0)
		}
		for _, closer := range strings.Split(closers, "") {
			checkFind(t, ahead+"</script"+closer, len(ahead), Plain)
			checkFind(t, ahead+"</script"+closer+"<!--<script>a='", len(ahead), Plain)
		}
	}
	for _, word := range eachCase("script") {
		checkFind(t, "a</"+word+">", 1, Plain)
		checkFind(t, "</"+word+" x>", 0, Plain)
		checkFind(t, "</"+word+"s>", len(word)+4, Plain)
	}
	const end = "</script>"
	for at := range len(end) {
		checkFind(t, end[:at], at, Plain)
		checkFind(t, end[:at]+"a", at+1, Plain)
		checkFind(t, end[:at]+end, at, Plain)
		checkFind(t, end[:at]+end[at+1:], len(end)-1, Plain)
		for _, c := range eachByte() {
			s := end[:at] + c + end[at+1:]
			next, state := Find(s, 0)
			small := strings.Contains([]string{"<", "/", "sS", "cC", "rR", "iI", "pP", "tT", closers}[at], c)
			if state != Plain || small && next != 0 || !small && next != len(s) {
				t.Errorf("Find(%q, 0): %d, %d", s, next, state)
			}
		}
	}
}

func TestPlainBeginsAComment(t *testing.T) {
	const opening = "<!--"
	for at := range len(opening) {
		for _, behind := range []string{"", "a", "<script>", "-->", " -->", opening[:at]} {
			check(t, opening[:at]+behind)
		}
		checkFind(t, opening[:at], at, Plain)
		checkFind(t, opening[:at]+"a<script>", at+9, Plain)
		checkFind(t, opening[:at]+"</script>", at, Plain)
		checkFind(t, opening[:at]+opening, at+4, Escaped)
		checkFind(t, opening[:at]+opening[at+1:], 3, Plain)
		for _, c := range eachByte() {
			s, want := opening[:at]+c+opening[at+1:], Plain
			if s == opening {
				want = Escaped
			}
			checkFind(t, s, 4, want)
		}
	}
	for _, ahead := range openings()[Plain] {
		checkFind(t, ahead+"<!--", len(ahead)+4, Escaped)
		// What has another byte within, or in the place of one, begins none.
		checkFind(t, ahead+"<! --", len(ahead)+5, Plain)
		checkFind(t, ahead+"< !--", len(ahead)+5, Plain)
		checkFind(t, ahead+"<!- -", len(ahead)+5, Plain)
		checkFind(t, ahead+"<?--", len(ahead)+4, Plain)
		checkFind(t, ahead+"<!\u2010\u2010", len(ahead)+8, Plain)
	}
}

func TestStrokesOfAComment(t *testing.T) {
	for n := range 9 {
		strokes := strings.Repeat("-", n)
		// Those that begin a comment count.
		checkFind(t, "<!--"+strokes+">", n+5, Plain)
		checkFind(t, "<!--"+strokes+"<script></script>", n+21, Escaped)
		checkFind(t, "<!--"+strokes+"></script>", n+5, Plain)
		checkFind(t, "<!--"+strokes+"><script></script>", n+13, Plain)
		for _, state := range []int{Escaped, Twice} {
			for _, c := range eachByte() {
				if c == "-" || c == ">" {
					continue
				}
				ahead := []string{"", "<!--", "<!--<script>"}[state]
				s, want := ahead+c+strokes+">", state
				if n >= 2 {
					want = Plain
				}
				checkFindOnce(t, s, len(s), want)
				// Another byte between them, and none of them counts any more.
				for cut := range n + 1 {
					s, want := ahead+"a"+strokes[:cut]+c+strokes[cut:]+">", state
					if n-cut >= 2 {
						want = Plain
					}
					checkFindOnce(t, s, len(s), want)
				}
				checkFindOnce(t, ahead+"a"+strokes+c+">", len(ahead)+n+3, state)
			}
			checkStrokesAhead(t, state, strokes)
		}
	}
}

// checkFindOnce checks what Find tells of s from its beginning on, and there alone.
func checkFindOnce(t *testing.T, s string, next, state int) {
	t.Helper()
	if n, told := Find(s, 0); n != next || told != state {
		t.Errorf("Find(%q, 0): %d, %d, want %d, %d", short(s), n, told, next, state)
	}
}

// checkStrokesAhead checks strokes ahead of tags, and brackets, in a state.
func checkStrokesAhead(t *testing.T, state int, strokes string) {
	t.Helper()
	ahead := []string{"", "<!--a", "<!--<script>a"}[state] + strokes
	n := len(ahead)
	plain := len(strokes) >= 2
	switch state {
	case Escaped:
		checkFind(t, ahead+"</script>", n, Escaped)
		checkFind(t, ahead+"<script>", n+8, Twice)
		checkFind(t, ahead+"<script>>", n+9, Twice)
		checkFind(t, ahead+"<script>-->", n+11, Plain)
		checkFind(t, ahead+"<script>->", n+10, Twice)
	case Twice:
		checkFind(t, ahead+"</script>", n+9, Escaped)
		checkFind(t, ahead+"</script>>", n+10, Escaped)
		checkFind(t, ahead+"</script>->", n+11, Escaped)
		checkFind(t, ahead+"</script>-->", n+12, Plain)
		checkFind(t, ahead+"</script></script>", n+9, Escaped)
		checkFind(t, ahead+"<script>", n+8, Twice)
		checkFind(t, ahead+"<script>>", n+9, Twice)
	}
	checkFind(t, ahead+"<>", n+2, state)
	checkFind(t, ahead+"<->", n+3, state)
	checkFind(t, ahead+"<-->", n+4, Plain)
	checkFind(t, ahead+"<!-->", n+5, Plain)
	checkFind(t, ahead+"!>", n+2, state)
	checkFind(t, ahead+" >", n+2, state)
	if plain {
		// It is a program again, whose comment a bracket doesn't end any more.
		checkFind(t, ahead+"></script>", n+1, Plain)
		checkFind(t, ahead+"><script></script>", n+9, Plain)
		checkFind(t, ahead+"><!--", n+5, Escaped)
		checkFind(t, ahead+">>", n+2, Plain)
	} else {
		checkFind(t, ahead+">", n+1, state)
		checkFind(t, ahead+">->", n+3, state)
		checkFind(t, ahead+">-->", n+4, Plain)
	}
}

func TestEscapedEnds(t *testing.T) {
	for _, ahead := range openings()[Escaped] {
		for _, c := range eachByte() {
			s := ahead + "</script" + c
			next, state := Find(s, 0)
			ends := strings.Contains(closers, c)
			if state != Escaped || ends && next != len(ahead) || !ends && next != len(s) {
				t.Errorf("Find(%q, 0): %d, %d", s, next, state)
			}
		}
		for _, word := range eachCase("script") {
			checkFindOnce(t, ahead+"</"+word+"/", len(ahead), Escaped)
			checkFindOnce(t, ahead+"</"+word+word+"/", len(ahead)+15, Escaped)
		}
		for _, closer := range strings.Split(closers, "") {
			checkFind(t, ahead+"</script"+closer, len(ahead), Escaped)
			checkFind(t, ahead+"</script"+closer+"--><script></script>", len(ahead), Escaped)
		}
		const end = "</script>"
		for at := range len(end) {
			s := ahead + end[:at]
			checkFind(t, s, len(s), Escaped)
			checkFind(t, s+"\x00", len(s)+1, Escaped)
			checkFind(t, s+"</script>", len(s), Escaped)
		}
	}
}

func TestEscapedBeginsAProgram(t *testing.T) {
	for _, ahead := range openings()[Escaped] {
		for _, c := range eachByte() {
			s, want := ahead+"<script"+c, Escaped
			if strings.Contains(closers, c) {
				want = Twice
			}
			checkFindOnce(t, s, len(s), want)
			// The byte behind it is passed over: it ends no comment, and is no stroke, either.
			checkFindOnce(t, s+">", len(s)+1, want)
			if want == Twice {
				checkFindOnce(t, s+"->", len(s)+2, Twice)
				checkFindOnce(t, s+"-->", len(s)+3, Plain)
				checkFindOnce(t, s+"</script>", len(s)+9, Escaped)
				checkFindOnce(t, s+"</script></script>", len(s)+9, Escaped)
				checkFindOnce(t, s+"script>", len(s)+7, Twice)
			} else if c != "-" {
				checkFindOnce(t, s+"->", len(s)+2, Escaped)
				checkFindOnce(t, s+"</script>", len(s), Escaped)
			}
		}
		for _, word := range eachCase("script") {
			for _, closer := range strings.Split(closers, "") {
				checkFindOnce(t, ahead+"<"+word+closer, len(ahead)+8, Twice)
				checkFindOnce(t, ahead+"<"+word+"s"+closer, len(ahead)+9, Escaped)
				checkFindOnce(t, ahead+"<"+word+word+closer, len(ahead)+14, Escaped)
			}
		}
		const begin = "<script>"
		for at := range len(begin) {
			s := ahead + begin[:at]
			checkFind(t, s, len(s), Escaped)
			checkFind(t, s+"\x00", len(s)+1, Escaped)
			checkFind(t, s+"\x00</script>", len(s)+1, Escaped)
			checkFind(t, s+begin, len(s)+8, Twice)
		}
	}
	for _, s := range []string{"<!--< script>", "<!--<!script>", "<!--<?script>", "<!--<ascript>", "<!--<<\x00script>", "<!--&lt;script>", "<!--<scrip>", "<!--<cript>", "<!--<\u017fcript>", "<!--<scr\u0131pt>", "<!--<script\u00a0>", "<!--<script\x0b>", "<!--<script\r>", "<!--<script\x00>", "<!--<script=>", "<!--<script'>", "<!--<script<", "<!--<script-"} {
		checkFind(t, s, len(s), Escaped)
	}
	checkFind(t, "<!--<<script>", 13, Twice)
	checkFind(t, "<!--</<script>", 14, Twice)
	checkFind(t, "<!--<script<script>", 19, Twice)
	checkFind(t, "<!--<script-->", 14, Plain)
}

func TestEachByteOfAProgramsTag(t *testing.T) {
	const begin, end = "<script>", "</script>"
	for _, c := range eachByte() {
		for at := range len(begin) {
			s, want := "<!--a"+begin[:at]+c+begin[at+1:], Escaped
			if strings.Contains([]string{"<", "sS", "cC", "rR", "iI", "pP", "tT", closers}[at], c) {
				want = Twice
			}
			checkFindOnce(t, s, len(s), want)
			checkFindOnce(t, s+"</script></script>", len(s)+9*(want-Escaped), Escaped)
		}
		for at := range len(end) {
			s, want := "<!--<script>a"+end[:at]+c+end[at+1:], Twice
			if strings.Contains([]string{"<", "/", "sS", "cC", "rR", "iI", "pP", "tT", closers}[at], c) {
				want = Escaped
			}
			checkFindOnce(t, s, len(s), want)
			checkFindOnce(t, s+"</script></script>", len(s)+9*(want-Escaped), Escaped)
		}
	}
}

func TestTwicePassesOverAnEnd(t *testing.T) {
	for _, ahead := range openings()[Twice] {
		for _, c := range eachByte() {
			s, want := ahead+"</script"+c, Twice
			if strings.Contains(closers, c) {
				want = Escaped
			}
			checkFindOnce(t, s, len(s), want)
			checkFindOnce(t, s+">", len(s)+1, want)
			if want == Escaped {
				checkFindOnce(t, s+"->", len(s)+2, Escaped)
				checkFindOnce(t, s+"-->", len(s)+3, Plain)
				checkFindOnce(t, s+"</script>", len(s), Escaped)
				checkFindOnce(t, s+"<script>", len(s)+8, Twice)
			} else if c != "-" {
				checkFindOnce(t, s+"->", len(s)+2, Twice)
				checkFindOnce(t, s+"</script>", len(s)+9, Escaped)
			}
		}
		for _, word := range eachCase("script") {
			for _, closer := range strings.Split(closers, "") {
				checkFindOnce(t, ahead+"</"+word+closer, len(ahead)+9, Escaped)
				checkFindOnce(t, ahead+"</"+word+"s"+closer, len(ahead)+10, Twice)
				checkFindOnce(t, ahead+"<"+word+closer, len(ahead)+8, Twice)
			}
		}
		const end = "</script>"
		for at := range len(end) {
			s := ahead + end[:at]
			checkFind(t, s, len(s), Twice)
			checkFind(t, s+"\x00", len(s)+1, Twice)
			checkFind(t, s+end, len(s)+9, Escaped)
			checkFind(t, s+end+end, len(s)+9, Escaped)
		}
		checkFind(t, ahead+"<script>", len(ahead)+8, Twice)
		checkFind(t, ahead+"<script></script></script>", len(ahead)+17, Escaped)
		checkFind(t, ahead+"<!--</script></script>", len(ahead)+13, Escaped)
		checkFind(t, ahead+"<!-->", len(ahead)+5, Plain)
		checkFind(t, ahead+"<!--></script>", len(ahead)+5, Plain)
	}
}

func TestCommentsInComments(t *testing.T) {
	for _, x := range []struct {
		s           string
		next, state int
	}{
		// A comment begins no other one, but its strokes are counted.
		{"<!--<!--", 8, Escaped}, {"<!--<!-->", 9, Plain}, {"<!--<!--->", 10, Plain}, {"<!--<!->", 8, Escaped}, {"<!--<!-- >", 10, Escaped}, {"<!--<!----></script>", 11, Plain}, {"<!--<!---->-->", 14, Plain}, {"<!--<!--></script>", 9, Plain}, {"<!--<!--a--><script></script>", 20, Plain},
		{"<!--<script><!--", 16, Twice}, {"<!--<script><!-->", 17, Plain}, {"<!--<script><!->", 16, Twice}, {"<!--<script><!--</script>", 25, Escaped}, {"<!--<script><!--<script>", 24, Twice}, {"<!--<script><!--></script>", 17, Plain}, {"<!--<script><!-- --></script>", 20, Plain},
		{"<!--<script><script>", 20, Twice}, {"<!--<script><script></script>", 29, Escaped}, {"<!--<script><script></script></script>", 29, Escaped}, {"<!--<script><script></script><script></script></script>", 46, Escaped},
		// Programs in comments, one behind the other.
		{"<!--<script></script><script></script></script>", 38, Escaped}, {"<!--<script></script>a<script></script>b</script>", 40, Escaped}, {"<!--<script></script>--><!--<script></script>--></script>", 48, Plain}, {"<!--<script>--><!--<script>--></script>", 30, Plain}, {"<!--<script>--><script></script>", 23, Plain}, {"<!--a--><!--b--></script>", 16, Plain}, {"<!--><!--></script>", 10, Plain}, {"<!--><!--</script>", 9, Escaped}, {"<!-->--></script>", 8, Plain}, {"<!--<script></script>--></script>", 24, Plain}, {"<!--a--><!--<script></script></script>", 29, Escaped},
		{"if(a<!--b)</script>", 10, Escaped}, {"<!--\nf('<script src=a>');\n//--></script>", 31, Plain}, {"<!--\nf('<script src=a></script>');\n//--></script>", 40, Plain}, {"x=\"<!--<script>\"</script>\n", 26, Escaped}, {"x=\"<\\!--<script>\"</script>", 17, Plain}, {"a<b>c--></script>", 8, Plain},
	} {
		checkFind(t, x.s, x.next, x.state)
	}
}

func TestPlacesInTheMidst(t *testing.T) {
	const s = "a<!--b<script>c</script>d</script>e--></script>"
	for _, x := range []struct{ at, next, state int }{
		{0, 25, Escaped}, {1, 25, Escaped}, {2, 15, Plain}, {3, 15, Plain}, {4, 15, Plain}, {5, 15, Plain}, {6, 15, Plain}, {14, 15, Plain}, {15, 15, Plain}, {16, 25, Plain}, {17, 25, Plain}, {23, 25, Plain}, {24, 25, Plain}, {25, 25, Plain}, {26, 38, Plain}, {34, 38, Plain}, {36, 38, Plain}, {38, 38, Plain}, {39, 47, Plain}, {46, 47, Plain}, {47, 47, Plain}, {48, 47, Plain},
	} {
		if next, state := Find(s, x.at); next != x.next || state != x.state {
			t.Errorf("Find(%q, %d): %d, %d, want %d, %d", s, x.at, next, state, x.next, x.state)
		}
	}
	check(t, s)
	// Strokes ahead of the place don't count, and no mark that begins ahead of it does.
	for _, x := range []struct {
		s               string
		at, next, state int
	}{
		{"<!-->", 2, 5, Plain}, {"--<!-->", 2, 7, Plain}, {"<!--<!-- >", 1, 10, Escaped}, {"<!--<!-- >", 4, 10, Escaped}, {"<!--<script></script>", 5, 12, Plain}, {"<!--</script>", 5, 13, Plain}, {"<<!--<script>", 1, 13, Twice}, {"<!-<!--<script></script", 3, 23, Twice},
	} {
		if next, state := Find(x.s, x.at); next != x.next || state != x.state {
			t.Errorf("Find(%q, %d): %d, %d, want %d, %d", x.s, x.at, next, state, x.next, x.state)
		}
		check(t, x.s)
	}
}

func TestFindWithoutAComment(t *testing.T) {
	parts := []string{"a", "<", "!", "-", ">", "</script", "</script>", "<script ", "</style>", "--", "-->", "\x00"}
	for n := range 6 {
		eachText(parts, n, func(s string) {
			if strings.Contains(s, "<!--") {
				return
			}
			next, state := Find(s, 0)
			if want := raw.Find(s, 0, "script"); next != want || state != Plain {
				t.Errorf("Find(%q, 0): %d, %d, of its raw text %d", s, next, state, want)
			}
		})
	}
	for _, s := range []string{"", "a", "</script>", "<script></script>", "<!-</script>", "<! --</script>", "<script>--></script>", "&lt;!--<script></script>", "<!-\x00-<script></script>", "a</SCRIPT\f<!--"[:11]} {
		for at := -3; at <= len(s)+3; at++ {
			next, state := Find(s, at)
			if want := raw.Find(s, at, "script"); next != want || state != Plain {
				t.Errorf("Find(%q, %d): %d, %d, of its raw text %d", s, at, next, state, want)
			}
		}
	}
	// Behind a comment, and where an end stands ahead of one, it is as if there were none.
	for _, s := range []string{"</script><!--<script></script>", "<!--<script>"} {
		for at := len(s); at > 1; at-- {
			checkRaw(t, s, at)
		}
	}
}

func TestAllShortTexts(t *testing.T) {
	w := inWords()
	bytes := eachByte()
	for n := range 3 {
		eachText(bytes, n, func(s string) {
			for _, ahead := range []string{"", "<!--", "<!--a-", "<!--<script>", "<!--<script></script"} {
				checkAt(t, ahead+s, 0)
			}
		})
	}
	for n := range 7 {
		eachText([]string{"<", "!", "-", ">", "/", "a"}, n, func(s string) {
			checkAt(t, s, 0)
			checkWords(t, w, "<!--<script"+s, 0)
		})
	}
	parts := []string{"<!--", "--", "-", ">", "<script", "</script", "<SCRIPT>", "</Script ", "/", "a"}
	for n := range 6 {
		eachText(parts, n, func(s string) { checkAt(t, s, 0) })
	}
	for n := range 4 {
		eachText(parts, n, func(s string) { check(t, s) })
	}
}

func TestText(t *testing.T) {
	for _, x := range []struct{ s, want string }{
		{"", ""}, {"a", "a"}, {"\x00", bad}, {"\x00\x00", bad + bad}, {"a\x00b", "a" + bad + "b"}, {"\n", "\n"}, {"\r", "\r"}, {"\r\n", "\r\n"}, {"\n\r\x00", "\n\r" + bad}, {"&", "&"}, {"&lt;", "&lt;"}, {"&lt;\x00", "&lt;" + bad}, {"&#0;", "&#0;"}, {"&#65", "&#65"}, {"&amp", "&amp"}, {"<!--\x00-->", "<!--" + bad + "-->"}, {"</script>", "</script>"}, {"<!--<script></script>", "<!--<script></script>"}, {"\xff\x00\xe2\x82", "\xff" + bad + "\xe2\x82"}, {bad, bad}, {"\u20ac", "\u20ac"}, {" \t\f", " \t\f"}, {"ABC", "ABC"},
	} {
		if got := Text(x.s); got != x.want {
			t.Errorf("Text(%q): %q, want %q", x.s, got, x.want)
		}
	}
	bytes := eachByte()
	for n := range 3 {
		eachText(bytes, n, func(s string) { checkText(t, s) })
	}
}

// checkText checks Text of s.
func checkText(t *testing.T, s string) {
	t.Helper()
	if got, want := Text(s), strings.ReplaceAll(s, "\x00", bad); got != want {
		t.Errorf("Text(%q): %q, want %q", short(s), short(got), short(want))
	}
}

func TestLongTexts(t *testing.T) {
	for _, x := range []struct {
		ahead, part string
		state       int
	}{
		{"", "a", Plain}, {"", "<", Plain}, {"", "</script", Plain}, {"", "-", Plain}, {"", "<!-", Plain}, {"", "<!-->", Plain}, {"", "<!--a-->", Plain}, {"", "<!--<script>-->", Plain}, {"", "<!--", Escaped}, {"", "<!--<script></script>", Escaped}, {"<!--", "a", Escaped}, {"<!--", "<", Escaped}, {"<!--", "-", Escaped}, {"<!--", "<script", Escaped}, {"<!--", "<script></script>", Escaped}, {"<!--<script>", "-", Twice}, {"<!--<script>", "<", Twice}, {"<!--<script>", "</script", Twice}, {"<!--", "<script>", Twice}, {"<!--<script>", "->", Twice}, {"", "\x00\xff", Plain},
	} {
		s := x.ahead + strings.Repeat(x.part, 1<<16)
		checkFindOnce(t, s, len(s), x.state)
		end := len(s)
		if x.state == Twice {
			end += len("</script>")
		}
		checkFindOnce(t, s+"</script></script>", end, min(x.state, Escaped))
		checkAt(t, s+"-->a</script>", 0)
		checkAt(t, s+"-->a</script>", len(s)/2)
		checkText(t, s)
	}
	for n := range 600 {
		for state, ahead := range []string{"", "<!--", "<!--<script>"} {
			want := Plain
			if state == inTwice && n < 2 {
				want = Twice
			}
			s := ahead + strings.Repeat("-", n) + ">"
			checkFindOnce(t, s, len(s), want)
		}
	}
	strokes := "<!--" + strings.Repeat("-", 1<<20) + ">"
	checkFindOnce(t, strokes, len(strokes), Plain)
	checkFindOnce(t, strokes+"</script>", len(strokes), Plain)
	checkText(t, strings.Repeat("\x00", 1<<20))
}

func TestTheSameEachTime(t *testing.T) {
	for range 1000 {
		for _, s := range []string{"", "a</script>", "<!--</script>", "<!--<script></script>--></script>", "<!-->", "<!--<script>"} {
			for at := -1; at <= len(s)+1; at++ {
				checkAt(t, s, at)
			}
		}
		checkText(t, "a\x00&amp;&#0;")
	}
}

func FuzzScript(f *testing.F) {
	for _, s := range []string{"", "a</script>", "<!--<script></script>--></script>", "<!--<script", "<!--></Script/", "<!--a--b></script>", "<!--<script ---></script>", "</</script\n", "<!--<SCRIPT\f<!--</script>>-->", "\x00&lt;<!-\x00-"} {
		f.Add(s, 0)
		f.Add(s, 3)
	}
	f.Fuzz(func(t *testing.T, s string, at int) {
		w := inWords()
		for _, ahead := range []string{"", "<!--", "<!--<script>"} {
			checkAt(t, ahead+s, at)
			checkWords(t, w, ahead+s, at)
		}
		checkRaw(t, s, at)
		checkText(t, s)
		check(t, s[:min(len(s), 100)])
	})
}
