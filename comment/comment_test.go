package comment

import (
	"math"
	"regexp"
	"slices"
	"strconv"
	"strings"
	"testing"

	"flail/api"
)

// bad is the sign 65533 by its bytes, so that the tests hang on no other package's word for it.
const bad = "\xef\xbf\xbd"

// letters is all of them, put down one by one, so that the tests share no rule with the program.
const letters = "ABCDEFGHIJKLMNOPQRSTUVWXYZabcdefghijklmnopqrstuvwxyz"

// read is what Read tells, so that two of them can be held against each other.
type read struct {
	t    api.Token
	next int
	ok   bool
}

// none is what Read tells where no comment begins.
func none(at int) read { return read{next: at} }

// told is what Read tells of a comment with that text, which ends there.
func told(text string, next int) read { return read{api.Token{Kind: 3, Text: text}, next, true} }

// same tells whether a and b are alike; an empty list is one like none.
func same(a, b read) bool {
	return a.t.Kind == b.t.Kind && a.t.Name == b.t.Name && a.t.Text == b.t.Text && slices.Equal(a.t.Attrs, b.t.Attrs) && a.t.Self == b.t.Self && a.next == b.next && a.ok == b.ok
}

// gotRead is what Read tells.
func gotRead(s string, at int) read {
	t, next, ok := Read(s, at)
	return read{t, next, ok}
}

// clean is s with api.Bad in the place of each byte 0.
func clean(s string) string { return strings.ReplaceAll(s, "\x00", bad) }

// wantBegins is what the chapter asks of Begins.
func wantBegins(s string, at int) bool {
	if at < 0 || at > len(s) {
		return false
	}
	rest := s[at:]
	switch {
	case strings.HasPrefix(rest, "<!"):
		return len(rest) < 9 || !strings.EqualFold(rest[2:9], "doctype")
	case strings.HasPrefix(rest, "</"):
		return len(rest) > 2 && strings.IndexByte(letters+">", rest[2]) < 0
	}
	return strings.HasPrefix(rest, "<?")
}

// steps goes through a comment byte by byte, keeping just what was seen of an end, as one does who can't look ahead.
type steps struct {
	seen string // of an end: strokes that may be its, and an exclamation mark behind them
	text strings.Builder
	// start tells that all that was read are strokes that stand right at the beginning.
	start bool
}

// step reads one byte, and tells whether the comment ends with it.
func (p *steps) step(c byte) bool {
	switch {
	case c == '>' && (p.start || p.seen == "--" || p.seen == "--!"):
		return true
	case c == '-' && (p.seen == "" || p.seen == "-"):
		p.seen += "-"
	case c == '-' && p.seen == "--":
		p.text.WriteByte('-')
	case c == '!' && p.seen == "--":
		p.seen = "--!"
	case c == '-': // behind an exclamation mark a stroke is the first one of another end
		p.text.WriteString(p.seen)
		p.seen = "-"
	default:
		p.text.WriteString(p.seen)
		p.seen = ""
		p.text.WriteByte(c)
	}
	p.start = p.start && c == '-'
	return false
}

// wantMarked is what the chapter asks of a comment whose text would begin at a place, behind two strokes.
func wantMarked(s string, from int) read {
	p := steps{start: true}
	for at := from; at < len(s); at++ {
		if p.step(s[at]) {
			return told(clean(p.text.String()), at+1)
		}
	}
	// What was seen of an end goes with the text's end.
	return told(clean(p.text.String()), len(s))
}

// wantRead is what the chapter asks of Read.
func wantRead(s string, at int) read {
	switch {
	case !wantBegins(s, at):
		return none(at)
	case strings.HasPrefix(s[at:], "<!--"):
		return wantMarked(s, at+4)
	}
	from := at + 2
	if s[at+1] == '?' {
		from = at + 1
	}
	text, _, ends := strings.Cut(s[from:], ">")
	if ends {
		return told(clean(text), from+len(text)+1)
	}
	return told(clean(text), len(s))
}

// inWords is what the chapter says of what stands behind two strokes, in the order in which it says so.
var inWords = regexp.MustCompile(`(?s)^(?:-?>|(.*?)(?:-->|--!>)|(.*?)(?:--!|--|-|)$)`)

// checkWords checks what is read behind two strokes against the chapter's words.
func checkWords(t *testing.T, behind string) {
	t.Helper()
	at := inWords.FindStringSubmatchIndex(behind)
	text := ""
	for k := 2; k < len(at); k += 2 {
		if at[k] >= 0 {
			text = behind[at[k]:at[k+1]]
		}
	}
	s := "<!--" + behind
	if got, want := gotRead(s, 0), told(clean(text), 4+at[1]); !same(got, want) {
		t.Errorf("Read(%q, 0): %s, in words %s", short(s), show(got), show(want))
	}
}

// short is s, or so much of it as a failing test may tell.
func short(s string) string {
	if len(s) > 100 {
		return s[:100] + ".."
	}
	return s
}

// show is r, in short.
func show(r read) string {
	return strconv.Itoa(r.t.Kind) + " " + strconv.Quote(short(r.t.Name)) + " " + strconv.Quote(short(r.t.Text)) + " " + strconv.Itoa(len(r.t.Attrs)) + " " + strconv.FormatBool(r.t.Self) + " " + strconv.Itoa(r.next) + " " + strconv.FormatBool(r.ok)
}

// checkAt checks both calls at one place of s.
func checkAt(t *testing.T, s string, at int) {
	t.Helper()
	if got, want := Begins(s, at), wantBegins(s, at); got != want {
		t.Errorf("Begins(%q, %d): %t", short(s), at, got)
	}
	if got, want := gotRead(s, at), wantRead(s, at); !same(got, want) {
		t.Errorf("Read(%q, %d): %s, want %s", short(s), at, show(got), show(want))
	}
}

// farAway is places that no text has.
func farAway() []int {
	return []int{math.MinInt, math.MinInt + 1, math.MinInt32, -1 << 32, -1<<32 + 1, -33, 1 << 31, 1 << 32, 1<<32 + 1, math.MaxInt - 9, math.MaxInt - 2, math.MaxInt - 1, math.MaxInt}
}

// check checks both calls at each place of s, and beside them.
func check(t *testing.T, s string) {
	t.Helper()
	for at := -3; at <= len(s)+3; at++ {
		checkAt(t, s, at)
	}
	for _, at := range farAway() {
		checkAt(t, s, at)
	}
}

// aheads is what may stand ahead of a comment, and is nothing to it.
var aheads = []string{"", "a", "<", "<!", "<!-", "<!--", "<a>", "</", "-", "--", "\x00\xff", "<a x='"}

// checkNone checks that no comment begins with s, whatever stands ahead of it.
func checkNone(t *testing.T, s string) {
	t.Helper()
	for _, ahead := range aheads {
		if Begins(ahead+s, len(ahead)) {
			t.Errorf("Begins(%q, %d)", short(ahead+s), len(ahead))
		}
		if got := gotRead(ahead+s, len(ahead)); !same(got, none(len(ahead))) {
			t.Errorf("Read(%q, %d): %s, though none begins", short(ahead+s), len(ahead), show(got))
		}
	}
	check(t, s)
}

// checkTold checks that a comment begins with s, has that text, and ends behind so many bytes, whatever stands ahead of it.
func checkTold(t *testing.T, s, text string, length int) {
	t.Helper()
	for _, ahead := range aheads {
		if !Begins(ahead+s, len(ahead)) {
			t.Errorf("Begins(%q, %d): false", short(ahead+s), len(ahead))
		}
		if got, want := gotRead(ahead+s, len(ahead)), told(text, len(ahead)+length); !same(got, want) {
			t.Errorf("Read(%q, %d): %s, want %s", short(ahead+s), len(ahead), show(got), show(want))
		}
	}
	check(t, s)
}

// checkWhole checks a comment that ends, whatever stands behind it.
func checkWhole(t *testing.T, s, text string) {
	t.Helper()
	for _, behind := range []string{"", ">", "->", "-->", "--!>", "a", "-", "!>", "<!--a-->", "\x00\xff", "\n"} {
		checkTold(t, s+behind, text, len(s))
	}
}

// checkOpen checks a comment that goes to the end of s.
func checkOpen(t *testing.T, s, text string) {
	t.Helper()
	checkTold(t, s, text, len(s))
}

// eachText hands all texts of n of those parts to see.
func eachText(of []string, n int, see func(string)) {
	if n == 0 {
		see("")
		return
	}
	eachText(of, n-1, func(ahead string) {
		for _, part := range of {
			see(ahead + part)
		}
	})
}

// eachByte is each byte, as a text of its own.
func eachByte() []string {
	var told []string
	for c := range 256 {
		told = append(told, string([]byte{byte(c)}))
	}
	return told
}

// eachCase is a word in each mixture of large letters and small ones.
func eachCase(word string) []string {
	told := []string{""}
	for _, c := range strings.Split(word, "") {
		var longer []string
		for _, ahead := range told {
			longer = append(longer, ahead+strings.ToLower(c), ahead+strings.ToUpper(c))
		}
		told = longer
	}
	return told
}

func TestPlacesThatAreNotThere(t *testing.T) {
	for _, s := range []string{"", "<", "<!", "<?", "</", "</1", "<!>", "<!--", "<!-->", "<!--a-->", "a", "\x00", "<\xff>"} {
		for _, at := range append(farAway(), -9, -5, -4, -3, -2, -1, len(s), len(s)+1, len(s)+2, len(s)+3, len(s)+4, len(s)+9) {
			if Begins(s, at) {
				t.Errorf("Begins(%q, %d)", s, at)
			}
			if got := gotRead(s, at); !same(got, none(at)) {
				t.Errorf("Read(%q, %d): %s", s, at, show(got))
			}
		}
	}
}

func TestWhatStandsBehindBrackets(t *testing.T) {
	for _, c := range eachByte() {
		begins := c == "!" || c == "?"
		for _, behind := range []string{"", ">", "a", "a>", "-->", "\xff"} {
			s := "<" + c + behind
			// Of a stroke what stands behind it tells.
			if c != "/" && Begins(s, 0) != begins {
				t.Errorf("Begins(%q, 0): %t", s, !begins)
			}
			check(t, s)
			check(t, "x"+s)
		}
		for _, mark := range []string{"!", "?", "/ ", "!--", "!a>"} {
			if s := c + mark; Begins(s, 0) != (c == "<") {
				t.Errorf("Begins(%q, 0)", s)
			}
		}
	}
	checkNone(t, "<")
}

func TestWhatStandsBehindExclamationMarks(t *testing.T) {
	checkOpen(t, "<!", "")
	for _, c := range eachByte() {
		for _, behind := range []string{"", ">", "octype", "octype>", "-", "-->", "\xff"} {
			s := "<!" + c + behind
			begins := !(strings.HasPrefix(behind, "octype") && (c == "d" || c == "D"))
			if Begins(s, 0) != begins {
				t.Errorf("Begins(%q, 0): %t", s, !begins)
			}
			check(t, s)
		}
	}
}

func TestDoctypes(t *testing.T) {
	words := eachCase("doctype")
	if len(words) != 128 {
		t.Fatal(len(words))
	}
	for _, word := range words {
		checkNone(t, "<!"+word)
		for _, behind := range []string{">", " html>", "a", "s>", "-->", "\x00", "\xff>", "<!-->", strings.Repeat("a", 300)} {
			if s := "<!" + word + behind; Begins(s, 0) || !same(gotRead(s, 0), none(0)) {
				t.Errorf("Begins(%q, 0): %t, Read: %s", short(s), Begins(s, 0), show(gotRead(s, 0)))
			}
		}
		for cut := range word {
			checkOpen(t, "<!"+word[:cut], word[:cut])
			checkTold(t, "<!"+word[:cut]+">", word[:cut], cut+3)
			checkTold(t, "<!"+word[:cut]+" "+word[cut:]+">", word[:cut]+" "+word[cut:], 11)
		}
	}
	// What is like it, and isn't it.
	for _, text := range []string{" doctype", "-doctype", "doctyp", "doc type", "octype", "doctipe", "doctyp\x00e", "d\x6fctyp\xe5", "\xc4octype", "do\xe7type", "doctyp\u00e9", "\uff24octype", "[doctype", "/doctype", "?doctype", "!doctype", "ddoctype", "<!doctype"} {
		checkWhole(t, "<!"+text+">", clean(text))
	}
	// Where no exclamation mark stands ahead of it, it is a text like others.
	checkWhole(t, "<?doctype>", "?doctype")
	checkWhole(t, "<?!doctype>", "?!doctype")
	checkWhole(t, "</!doctype>", "!doctype")
	checkWhole(t, "<!--doctype-->", "doctype")
	checkNone(t, "<doctype>")
	checkNone(t, "</doctype>")
}

func TestWhatStandsBehindQuestionMarks(t *testing.T) {
	checkOpen(t, "<?", "?")
	checkWhole(t, "<?>", "?")
	for _, c := range eachByte() {
		if c == ">" {
			continue
		}
		checkOpen(t, "<?"+c, clean("?"+c))
		checkWhole(t, "<?"+c+">", clean("?"+c))
		checkWhole(t, "<?a"+c+">", clean("?a"+c))
	}
}

func TestWhatStandsBehindStrokes(t *testing.T) {
	checkNone(t, "</")
	checkNone(t, "</>")
	for _, c := range eachByte() {
		if strings.Contains(letters+">", c) {
			checkNone(t, "</"+c)
			checkNone(t, "</"+c+">")
			checkNone(t, "</"+c+"-->")
			checkNone(t, "</"+c+" \xff>")
			continue
		}
		checkOpen(t, "</"+c, clean(c))
		checkWhole(t, "</"+c+">", clean(c))
		checkWhole(t, "</"+c+"a>", clean(c+"a"))
		checkWhole(t, "</"+c+c+">", clean(c+c))
	}
}

func TestWhereNoneBegins(t *testing.T) {
	for _, s := range []string{"a", "a<!>", "<a>", "<a!>", "< !>", "< ?>", "<-->", "<--!>", "<<!>", "<<?>", "<</ >", "<>", "<>!", "&lt;!>", "!", "!--a-->", "?a>", "/ >", "-->", "\x00<!>", "<\x00!>", "\xff<!>", "\xbc!>", "\xbc?", "<\xa1>", "<\xbf>", "<\xaf >", "\uff1c!>", "<\uff01>", "<\u00a1>", "<\u00bf>", "\\!", "(!)", "=?"} {
		checkNone(t, s)
	}
}

func TestMarked(t *testing.T) {
	for _, x := range []struct{ behind, text string }{
		{"a-->", "a"}, {"a--!>", "a"}, {" a -->", " a "}, {"\n-->", "\n"}, {"a\r\nb\rc-->", "a\r\nb\rc"}, {"<b>c</b>-->", "<b>c</b>"}, {"a>b-->", "a>b"}, {"&lt;-->", "&lt;"}, {"'-->", "'"}, {"\"--!>", "\""},
		// A bracket, and a stroke and a bracket, right behind it: nothing.
		{">", ""}, {"->", ""},
		// Elsewhere they are text.
		{" >-->", " >"}, {"a>-->", "a>"}, {"a->-->", "a->"}, {" ->-->", " ->"}, {"!>-->", "!>"}, {"-a>-->", "-a>"}, {"-!>-->", "-!>"}, {"!->-->", "!->"}, {"- >-->", "- >"}, {"<>-->", "<>"}, {"--a>-->", "--a>"},
		// Nothing ahead of an end.
		{"-->", ""}, {"--!>", ""},
		// Texts that begin with strokes.
		{"-a-->", "-a"}, {"--a-->", "--a"}, {"---a-->", "---a"}, {"--->", "-"}, {"---->", "--"}, {"----->", "---"}, {"---!>", "-"}, {"----!>", "--"}, {"- -->", "- "}, {"-- -->", "-- "}, {"--!a-->", "--!a"}, {"-!-->", "-!"}, {"!-->", "!"}, {"!--!>", "!"}, {"!!-->", "!!"},
		// What is like an end, ahead of one.
		{"a--b-->", "a--b"}, {"a--!b-->", "a--!b"}, {"a--!b--!>", "a--!b"}, {"a-- >b-->", "a-- >b"}, {"a--! >-->", "a--! >"}, {"a- ->-->", "a- ->"}, {"a--!!>-->", "a--!!>"}, {"a-!>-->", "a-!>"}, {"a!>-->", "a!>"}, {"a-!->-->", "a-!->"}, {"--\n>-->", "--\n>"}, {"--?>-->", "--?>"}, {"--!-!>-->", "--!-!>"},
		// Ends that share bytes with what is ahead of them.
		{"a--->", "a-"}, {"a---->", "a--"}, {"a---!>", "a-"}, {"a----!>", "a--"}, {"a--!-->", "a--!"}, {"a--!--!>", "a--!"}, {"a--!--->", "a--!-"}, {"a--!---!>", "a--!-"}, {"--!-->", "--!"}, {"--!--!>", "--!"}, {"a--!->-->", "a--!->"}, {"a--!->b--!>", "a--!->b"}, {"a-!-->", "a-!"}, {"a!-->", "a!"}, {"a>-->", "a>"}, {"a!--!>", "a!"},
		// Comments within are text.
		{"<!-->", "<!"}, {"<!--!>", "<!"}, {"<!--->", "<!-"}, {"<!--a-->", "<!--a"}, {"<!->-->", "<!->"}, {"<!>-->", "<!>"}, {"<-->", "<"}, {"<!----!>", "<!--"}, {"<!--<!--a-->", "<!--<!--a"}, {"</a>-->", "</a>"}, {"<!doctype>-->", "<!doctype>"}, {"<?a?>-->", "<?a?>"},
		// The byte 0, bytes that are no signs, signs of more bytes.
		{"\x00-->", bad}, {"\x00\x00a\x00--!>", bad + bad + "a" + bad}, {"-\x00->-->", "-" + bad + "->"}, {"--\x00>-->", "--" + bad + ">"}, {"\x00>-->", bad + ">"}, {"a\xff\xe2-->", "a\xff\xe2"}, {"\xad->-->", "\xad->"}, {"--\xbe-->", "--\xbe"}, {"--\xa1>-->", "--\xa1>"}, {"\u2013\u2014>-->", "\u2013\u2014>"}, {"\u00e9\U0001f600-->", "\u00e9\U0001f600"}, {bad + "-->", bad},
		{strings.Repeat("-", 70) + ">", strings.Repeat("-", 68)}, {strings.Repeat("-!", 70) + "-->", strings.Repeat("-!", 70)}, {strings.Repeat("--!", 70) + ">", strings.Repeat("--!", 69)},
	} {
		checkWhole(t, "<!--"+x.behind, x.text)
		checkWords(t, x.behind)
	}
}

// Of ends that stand one behind the other the first one is a comment's, whatever it is.
func TestTheFirstEndIsTheEnd(t *testing.T) {
	ends := []string{">", "->", "-->", "--!>"}
	for _, text := range []string{"", "a", "-", "!", "a-", "a--!", "-->"} {
		for _, first := range ends {
			for _, second := range ends {
				for _, within := range []string{"", "b", "-", "!", "\n"} {
					s := "<!--" + text + first + within + second
					check(t, s)
					checkWords(t, s[4:])
				}
			}
		}
	}
	for _, behind := range []string{"b-->", "b--!>", "-->", "--!>", "b>", ">", "->", "-", "!>", "--", "<!--"} {
		checkTold(t, "<!-->"+behind, "", 5)
		checkTold(t, "<!--->"+behind, "", 6)
		checkTold(t, "<!---->"+behind, "", 7)
		checkTold(t, "<!----!>"+behind, "", 8)
		checkTold(t, "<!--a-->"+behind, "a", 8)
		checkTold(t, "<!--a--!>"+behind, "a", 9)
	}
}

func TestMarkedWithoutAnEnd(t *testing.T) {
	for _, x := range []struct{ behind, text string }{
		{"", ""}, {"a", "a"}, {" ", " "}, {"a>", "a>"}, {"a->", "a->"}, {" >", " >"}, {"a-- >", "a-- >"}, {"a--!!>", "a--!!>"}, {"-!>", "-!>"}, {"!>", "!>"},
		// Ends that are cut short by the text's end are gone.
		{"a-", "a"}, {"a--", "a"}, {"a--!", "a"}, {"-", ""}, {"--", ""}, {"--!", ""},
		// At most once.
		{"a---", "a-"}, {"a----", "a--"}, {"a-----", "a---"}, {"---", "-"}, {"----", "--"}, {"a---!", "a-"}, {"a----!", "a--"}, {"---!", "-"}, {"a--!-", "a--!"}, {"a--!--", "a--!"}, {"a--!--!", "a--!"}, {"--!--!", "--!"}, {"--!-", "--!"}, {"--!--", "--!"}, {"a--!---", "a--!-"}, {"a--!---!", "a--!-"},
		// What isn't one of them stays.
		{"a-!", "a-!"}, {"-!", "-!"}, {"!", "!"}, {"a!", "a!"}, {"a--!!", "a--!!"}, {"--!!", "--!!"}, {"!!", "!!"}, {"a- ", "a- "}, {"a-- ", "a-- "}, {"a--! ", "a--! "}, {"a-\x00", "a-" + bad}, {"-!-", "-!"}, {"-!--", "-!"}, {"-!--!", "-!"}, {"-!-!", "-!-!"}, {"a--\xff", "a--\xff"}, {"--\u2014", "--\u2014"}, {"a\u2014", "a\u2014"}, {"a\xad", "a\xad"},
		{"<!--", "<!"}, {"<!", "<!"}, {"<!-", "<!"}, {"<!---", "<!-"}, {"<!--a", "<!--a"}, {"<!>", "<!>"}, {"<", "<"},
		{"\x00", bad}, {"\x00-", bad}, {"\x00--!", bad}, {"a\x00b\x00", "a" + bad + "b" + bad}, {"\xff\xe2", "\xff\xe2"}, {"a\r\n", "a\r\n"},
		{strings.Repeat("-", 70), strings.Repeat("-", 68)}, {strings.Repeat("!", 70), strings.Repeat("!", 70)}, {strings.Repeat("--!", 70), strings.Repeat("--!", 69)},
	} {
		checkOpen(t, "<!--"+x.behind, x.text)
		checkWords(t, x.behind)
	}
}

// marks is what begins a comment up to the next bracket, and what of it is part of its text.
var marks = []struct{ mark, text string }{{"<!", ""}, {"<?", "?"}, {"</ ", " "}, {"</!", "!"}, {"</-", "-"}, {"<!-", "-"}, {"</1", "1"}, {"<![", "["}, {"</\x00", bad}, {"</\xff", "\xff"}}

func TestUpToABracket(t *testing.T) {
	for _, m := range marks {
		for _, x := range []struct{ behind, text string }{
			{"", ""}, {"a", "a"}, {" a b ", " a b "}, {"\n", "\n"}, {"a\r\nb\rc", "a\r\nb\rc"}, {"a?", "a?"}, {"?", "?"}, {"!", "!"}, {"/", "/"}, {"!--", "!--"}, {"a-", "a-"}, {"a--", "a--"}, {"a--!", "a--!"}, {" -- a --", " -- a --"},
			// Quotes, brackets that open, and references are text.
			{"'", "'"}, {"\"", "\""}, {"a='b'", "a='b'"}, {"'\"", "'\""}, {"<", "<"}, {"a<b", "a<b"}, {"<!--a--", "<!--a--"}, {"</a", "</a"}, {"&gt;", "&gt;"}, {"&#62;a", "&#62;a"}, {"ENTITY a 'b'", "ENTITY a 'b'"}, {"CDATA[a]]", "CDATA[a]]"}, {"[if a]", "[if a]"},
			// The byte 0, bytes that are no signs, signs of more bytes.
			{"\x00", bad}, {"a\x00b\x00\x00", "a" + bad + "b" + bad + bad}, {"\xff\xe2\x82", "\xff\xe2\x82"}, {"\xbe", "\xbe"}, {"\uff1e\u00e9", "\uff1e\u00e9"}, {bad, bad},
			{strings.Repeat("ab", 60), strings.Repeat("ab", 60)},
		} {
			if strings.HasPrefix(m.mark+x.behind, "<!--") {
				continue
			}
			checkWhole(t, m.mark+x.behind+">", m.text+x.text)
			checkOpen(t, m.mark+x.behind, m.text+x.text)
		}
		// The first bracket is the end, whatever stands around it.
		for _, behind := range []string{"a>b>", "'>'>", "\">\">", "<a>>", "[a]>]]>", ">>", "?>?>", "a/>/>"} {
			text, _, _ := strings.Cut(behind, ">")
			checkTold(t, m.mark+behind, m.text+text, len(m.mark+text)+1)
		}
	}
}

func TestOrdinaryComments(t *testing.T) {
	for _, x := range []struct{ s, text string }{
		{"<!--a-->", "a"}, {"<!-->", ""}, {"<?x>", "?x"}, {"</ a>", " a"},
		{"<!>", ""}, {"<!a>", "a"}, {"<!->", "-"}, {"<!-a>", "-a"}, {"<!-a->", "-a-"}, {"<!- -a-->", "- -a--"}, {"<!a-->", "a--"}, {"<![CDATA[a]]>", "[CDATA[a]]"}, {"<![CDATA[a>", "[CDATA[a"}, {"<![if a]>", "[if a]"}, {"<!ELEMENT br EMPTY>", "ELEMENT br EMPTY"}, {"<!/a>", "/a"}, {"<!?a>", "?a"}, {"<!!>", "!"},
		{"<?xml version=\"1.0\"?>", "?xml version=\"1.0\"?"}, {"<?>", "?"}, {"<??>", "??"}, {"<?!--a-->", "?!--a--"}, {"<?php echo '>", "?php echo '"},
		{"</1>", "1"}, {"</ >", " "}, {"</\n>", "\n"}, {"<//>", "/"}, {"<//a>", "/a"}, {"</<>", "<"}, {"</<a>", "<a"}, {"</!--a-->", "!--a--"}, {"</?>", "?"}, {"</@a>", "@a"}, {"</[a>", "[a"}, {"</`a>", "`a"}, {"</{a>", "{a"}, {"</\x00>", bad}, {"</\xe1>", "\xe1"}, {"</\u00e9>", "\u00e9"}, {"</\u212a>", "\u212a"}, {"</='>", "='"},
	} {
		checkWhole(t, x.s, x.text)
	}
}

// Each beginning of a comment, from its mark on, is one that goes to the end (P10.3).
func TestWhatHasNoEnd(t *testing.T) {
	for _, s := range []string{"<!--a\x00<b x='>'>-- -!> &gt;</c><!-- \xff--!-", "<!a\x00<b x='' &gt;</c<!-- \xff--!-", "<?a\x00<b x='' &gt;</c<!-- \xff--!-", "</ a\x00<b x='' &gt;</c<!-- \xff--!-"} {
		for last := 3; last <= len(s); last++ {
			got := gotRead(s[:last], 0)
			if !Begins(s[:last], 0) || !got.ok || got.next != last || got.t.Kind != api.Comment {
				t.Errorf("Read(%q, 0): %s", s[:last], show(got))
			}
			checkAt(t, "x"+s[:last], 1)
		}
		check(t, s)
	}
	checkOpen(t, "<!--a\x00<b x='>'>-- -!> &gt;</c><!-- \xff--!-", "a"+bad+"<b x='>'>-- -!> &gt;</c><!-- \xff--!")
	checkOpen(t, "<!a\x00<b", "a"+bad+"<b")
	checkOpen(t, "<?a\x00<b", "?a"+bad+"<b")
	checkOpen(t, "</ a\x00<b", " a"+bad+"<b")
	checkOpen(t, "<!-", "-")
}

func TestCommentsWithOthersAroundThem(t *testing.T) {
	s := "a < b<!doctype html><p x='<!--'>c<!--d--e-->f</p><?g h?></>i</ j><!k>l<!-->m</"
	check(t, s)
	for _, x := range []struct{ part, text string }{{"<!--d--e-->", "d--e"}, {"<?g h?>", "?g h?"}, {"</ j>", " j"}, {"<!k>", "k"}, {"<!-->", ""}} {
		at := strings.Index(s, x.part)
		if got := gotRead(s, at); !same(got, told(x.text, at+len(x.part))) {
			t.Errorf("%q: %s", x.part, show(got))
		}
	}
	var begins []int
	for at := range s {
		if Begins(s, at) {
			begins = append(begins, at)
		}
	}
	if want := []int{26, 33, 49, 60, 65, 70}; !slices.Equal(begins, want) {
		t.Errorf("%q: comments begin at %d, want %d", s, begins, want)
	}
}

func TestAllShortTexts(t *testing.T) {
	bytes := eachByte()
	for _, ahead := range []string{"", "<", "<!", "<?", "</", "<!-", "<!--", "<!--a", "<!---", "<!--a-", "<!--a--", "<!--a--!", "<!doctyp"} {
		for n := range 3 {
			eachText(bytes, n, func(s string) {
				checkAt(t, ahead+s, 0)
				checkAt(t, ahead+s+"-->", 0)
			})
		}
	}
	parts := []string{"<", "/", ">", "!", "?", "-", "--", "a", "D", " ", "\x00", "\xff", "octype", "'"}
	for n := range 5 {
		eachText(parts, n, func(s string) { check(t, s) })
	}
	for n := range 9 {
		eachText([]string{"-", "!", ">", "a"}, n, func(s string) {
			checkAt(t, "<!--"+s, 0)
			checkWords(t, s)
		})
	}
	for n := range 7 {
		eachText([]string{"-", "!", ">", "<", "\x00", "\xad"}, n, func(s string) { checkWords(t, s) })
	}
	eachText([]string{"<", "/", ">", "!", "?", "-"}, 7, func(s string) { checkAt(t, s, 0) })
}

func TestLongComments(t *testing.T) {
	for _, part := range []string{"a", "-", "!", ">", "<", "--", "-!", "--!", "->", "-- >", "--!-", "<!", "<!--", "<!-->", "</", "<?", "/", "?", "\x00", "\xff", "- ", "\r\n", "\u00e9", "a>"} {
		s := strings.Repeat(part, 20000)
		for _, begin := range []string{"<!--", "<!", "<?", "</", "</ ", "<!-", "<!--a"} {
			for _, behind := range []string{"", ">", "->", "-->", "--!>", "--!", "-", "a"} {
				checkAt(t, begin+s+behind, 0)
				checkAt(t, s+begin+s+behind, len(s))
			}
		}
	}
	// One text of very many bytes, each second of which is told otherwise than it stands there.
	const many = 1 << 20
	from, to := strings.Repeat("-\x00", many), strings.Repeat("-"+bad, many)
	for _, x := range []struct {
		s, text string
		next    int
	}{
		{"<!--" + from + "-->a", to, 2*many + 7}, {"<!--" + from + "--!>a", to, 2*many + 8}, {"<!--" + from + "--!", to, 2*many + 7},
		{"<! " + from + ">a", " " + to, 2*many + 4}, {"<?" + from + ">a", "?" + to, 2*many + 3}, {"</" + from + ">a", to, 2*many + 3}, {"</" + from, to, 2*many + 2},
	} {
		if got := gotRead(x.s, 0); !same(got, told(x.text, x.next)) {
			t.Errorf("%q: %s", short(x.s), show(got))
		}
	}
}

func TestTheSameEachTime(t *testing.T) {
	for range 1000 {
		for _, s := range []string{"<!--a-->", "<!-->", "<!--->", "<!--a--!>", "<!--a--!", "<!a>", "<?a>", "</ a>", "</a>", "<!doctype>", "<"} {
			checkAt(t, s, 0)
		}
	}
}

func TestWhatIsToldIsMemoryOfItsOwn(t *testing.T) {
	const s = "<!--a\x00-->"
	first, second := gotRead(s, 0), gotRead(s, 0)
	first.t.Attrs = append(first.t.Attrs, api.Attr{Name: "y", Value: "z"})
	first.t.Text += "b"
	if third, want := gotRead(s, 0), told("a"+bad, 9); !same(second, want) || !same(third, want) {
		t.Errorf("%s, %s", show(second), show(third))
	}
	// What stood in another comment ahead is nothing to it.
	if got := gotRead("<!--b-->", 0); !same(got, told("b", 8)) {
		t.Error(show(got))
	}
}

func FuzzComment(f *testing.F) {
	for _, s := range []string{"", "<", "<!", "<?", "</", "<!>", "<!-->", "<!--->", "<!--a-->", "<!--a--!>", "<!--a--!-->", "<!--a----", "<!-a>", "<?x>", "</ a>", "</a>", "<!DOCTYPE>", "<![CDATA[x]]>", "x<!y>", "<!--<!--a-->-->"} {
		f.Add(s, 0)
		f.Add(s, 1)
	}
	f.Fuzz(func(t *testing.T, s string, at int) {
		checkAt(t, s, at)
		check(t, s[:min(len(s), 200)])
		checkWords(t, s)
	})
}
