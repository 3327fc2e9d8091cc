package tok

import (
	"math"
	"regexp"
	"slices"
	"strconv"
	"strings"
	"testing"

	"flail/api"
	"flail/comment"
	"flail/doctype"
	"flail/lines"
	"flail/raw"
	"flail/ref"
	"flail/script"
	"flail/tag"
	"flail/text"
)

// bad is the sign 65533 by its bytes, so that the tests hang on no other package's word for it.
const bad = "\xef\xbf\xbd"

// letters is each letter, put down one by one, so that the tests share no rule with the program.
const letters = "abcdefghijklmnopqrstuvwxyzABCDEFGHIJKLMNOPQRSTUVWXYZ"

// spaces is the four Spaces, and closers what ends a tag's name.
const (
	spaces  = "\t\n\f "
	closers = spaces + "/>"
)

// texts is the states in which all is text, up to an end.
var texts = []int{api.Rcdata, api.Rawtext, api.Script, api.Plaintext}

// noStates is states in which nothing is told; some of them are others in fewer bits.
var noStates = []int{-1, -2, -4, api.Double, api.Single, 7, 8, 100, 255, 256, 257, 1 << 31, 1 << 32, 1<<32 + 1, 1<<32 + 2, 1<<32 + 3, 1<<32 + 4, -1 << 32, -1<<32 + 1, math.MinInt, math.MinInt + 1, math.MinInt + 4, math.MaxInt, math.MaxInt - 1}

// short is s, or so much of it as a failing test may tell.
func short(s string) string {
	if len(s) > 200 {
		return s[:200] + ".."
	}
	return s
}

// show tells tokens: their kinds by a letter each, and what they say.
func show(l []api.Token) string {
	var told []string
	for _, t := range l {
		one := "?" + strconv.Itoa(t.Kind)
		if t.Kind >= 0 && t.Kind < 5 {
			one = "TSECD"[t.Kind : t.Kind+1]
		}
		if t.Name != "" {
			one += "<" + t.Name + ">"
		}
		if t.Text != "" {
			one += strconv.Quote(t.Text)
		}
		for _, a := range t.Attrs {
			one += " " + a.Name + "=" + strconv.Quote(a.Value)
		}
		if t.Self {
			one += "/"
		}
		told = append(told, one)
	}
	return short(strings.Join(told, ";"))
}

// sameToken tells whether a and b are alike; an empty list is one like none.
func sameToken(a, b api.Token) bool {
	return a.Kind == b.Kind && a.Name == b.Name && a.Text == b.Text && a.Self == b.Self && slices.Equal(a.Attrs, b.Attrs)
}

// sameTokens tells whether lists of them are alike.
func sameTokens(a, b []api.Token) bool { return slices.EqualFunc(a, b, sameToken) }

// inside is at, or the place of s that it counts as.
func inside(s string, at int) int {
	switch {
	case at < 0:
		return 0
	case at > len(s):
		return len(s)
	}
	return at
}

// farAway is places that no text has.
func farAway() []int {
	return []int{math.MinInt, math.MinInt + 1, math.MinInt + 2, math.MinInt32, -1 << 32, -1<<32 + 1, -33, 1 << 31, 1 << 32, 1<<32 + 1, math.MaxInt - 9, math.MaxInt - 3, math.MaxInt - 2, math.MaxInt - 1, math.MaxInt}
}

// eachText hands all texts of n of those parts to see.
func eachText(of []string, n int, see func(string)) {
	if n == 0 {
		see("")
		return
	}
	eachText(of, n-1, func(ahead string) {
		for _, part := range of {
			see(ahead + part)
		}
	})
}

// eachByte is each byte, as a text of its own.
func eachByte() []string {
	var told []string
	for c := range 256 {
		told = append(told, string([]byte{byte(c)}))
	}
	return told
}

// eachCase is a word in each mixture of large letters and small ones.
func eachCase(word string) []string {
	told := []string{""}
	for _, c := range strings.Split(word, "") {
		var longer []string
		for _, ahead := range told {
			longer = append(longer, ahead+strings.ToLower(c), ahead+strings.ToUpper(c))
		}
		told = longer
	}
	return told
}

// low is s with small letters in the places of the large ones, byte by byte.
func low(s string) string {
	bytes := []byte(s)
	for at, c := range bytes {
		if k := strings.IndexByte(letters[26:], c); k >= 0 {
			bytes[at] = letters[k]
		}
	}
	return string(bytes)
}

// clean is s with api.Bad in the place of each byte 0.
func clean(s string) string { return strings.ReplaceAll(s, "\x00", bad) }

// among tells whether c is one of these bytes.
func among(c byte, these string) bool { return strings.IndexByte(these, c) >= 0 }

// piece is what Next tells at a place.
type piece struct {
	t    api.Token
	next int
	ok   bool
}

// gotNext is what Next tells.
func gotNext(s string, at int) piece {
	t, next, ok := Next(s, at)
	return piece{t, next, ok}
}

// samePiece tells whether a and b are alike.
func samePiece(a, b piece) bool { return sameToken(a.t, b.t) && a.next == b.next && a.ok == b.ok }

// machine reads data byte by byte, and never goes back: what a byte means hangs on the step that it is read in, and so does what the end of the text means.
type machine struct {
	step        func(m *machine, c byte)
	end         func(m *machine)
	at          int    // the place of the byte that is read
	held        string // what is to be told of a text, a comment or a doctype
	tag         api.Token
	name, value string
	quote       byte
	told        []piece
}

// goTo makes a step the next one.
func (m *machine) goTo(step func(*machine, byte), end func(*machine)) { m.step, m.end = step, end }

// tell tells a piece that ends at a place; behind it stands data.
func (m *machine) tell(t api.Token, next int, ok bool) {
	m.told = append(m.told, piece{t, next, ok})
	m.held, m.tag = "", api.Token{}
	m.goTo(inData, endData)
}

// tellData tells the text that ends at a place, if there is any.
func (m *machine) tellData(next int) {
	if m.held != "" {
		m.tell(api.Token{Kind: api.Text, Text: ref.Decode(m.held, false)}, next, true)
	}
}

func inData(m *machine, c byte) {
	if c == '<' {
		m.goTo(afterBracket, func(m *machine) { m.held += "<"; endData(m) })
		return
	}
	m.held += string([]byte{c})
}

func endData(m *machine) { m.tellData(m.at) }

func afterBracket(m *machine, c byte) {
	switch {
	case among(c, letters):
		m.tellData(m.at - 1)
		m.beginTag(api.Start, c)
	case c == '/':
		m.goTo(afterStroke, func(m *machine) { m.held += "</"; endData(m) })
	case c == '!':
		m.tellData(m.at - 1)
		m.goTo(afterBang, endBogus)
	case c == '?':
		m.tellData(m.at - 1)
		m.held = "?"
		m.goTo(inBogus, endBogus)
	default:
		m.held += "<"
		m.goTo(inData, endData)
		inData(m, c)
	}
}

func afterStroke(m *machine, c byte) {
	m.tellData(m.at - 2)
	switch {
	case among(c, letters):
		m.beginTag(api.End, c)
	case c == '>':
		m.tell(api.Token{}, m.at+1, false)
	default:
		m.goTo(inBogus, endBogus)
		inBogus(m, c)
	}
}

func afterBang(m *machine, c byte) {
	m.held += string([]byte{c})
	switch {
	case m.held == "--":
		m.held = ""
		m.goTo(inComment, endComment)
	case low(m.held) == "doctype":
		m.held = ""
		m.goTo(inDoctype, endDoctype)
	case m.held == "-" || strings.HasPrefix("doctype", low(m.held)):
	default:
		m.held = m.held[:len(m.held)-1]
		m.goTo(inBogus, endBogus)
		inBogus(m, c)
	}
}

func inBogus(m *machine, c byte) {
	if c == '>' {
		m.tell(api.Token{Kind: api.Comment, Text: clean(m.held)}, m.at+1, true)
		return
	}
	m.held += string([]byte{c})
}

func endBogus(m *machine) { m.tell(api.Token{Kind: api.Comment, Text: clean(m.held)}, m.at, true) }

func inDoctype(m *machine, c byte) {
	if c == '>' {
		m.tell(api.Token{Kind: api.Doctype, Text: clean(m.held)}, m.at+1, true)
		return
	}
	m.held += string([]byte{c})
}

func endDoctype(m *machine) { m.tell(api.Token{Kind: api.Doctype, Text: clean(m.held)}, m.at, true) }

func inComment(m *machine, c byte) {
	m.held += string([]byte{c})
	says, whole := strings.CutSuffix(m.held, "-->")
	if !whole {
		says, whole = strings.CutSuffix(m.held, "--!>")
	}
	if m.held == ">" || m.held == "->" {
		says, whole = "", true
	}
	if whole {
		m.tell(api.Token{Kind: api.Comment, Text: clean(says)}, m.at+1, true)
	}
}

func endComment(m *machine) {
	for _, end := range []string{"--!", "--", "-"} {
		if says, cut := strings.CutSuffix(m.held, end); cut {
			m.held = says
			break
		}
	}
	endBogus(m)
}

func (m *machine) beginTag(kind int, c byte) {
	m.tag = api.Token{Kind: kind}
	m.goTo(inTagName, endTag)
	inTagName(m, c)
}

func endTag(m *machine) { m.tell(api.Token{}, m.at, false) }

func inTagName(m *machine, c byte) {
	if among(c, closers) {
		m.tag.Name = clean(low(m.tag.Name))
		m.goTo(betweenAttrs, endTag)
		betweenAttrs(m, c)
		return
	}
	m.tag.Name += string([]byte{c})
}

func betweenAttrs(m *machine, c byte) {
	switch {
	case among(c, spaces):
	case c == '/':
		m.goTo(afterTagStroke, endTag)
	case c == '>':
		m.tellTag()
	default:
		m.name = string([]byte{c})
		m.goTo(inAttrName, endTag)
	}
}

func afterTagStroke(m *machine, c byte) {
	m.tag.Self = c == '>'
	m.goTo(betweenAttrs, endTag)
	betweenAttrs(m, c)
}

func inAttrName(m *machine, c byte) {
	if among(c, closers+"=") {
		m.goTo(afterAttrName, endTag)
		afterAttrName(m, c)
		return
	}
	m.name += string([]byte{c})
}

func afterAttrName(m *machine, c byte) {
	switch {
	case among(c, spaces):
	case c == '=':
		m.goTo(beforeValue, endTag)
	default:
		m.keep()
		betweenAttrs(m, c)
	}
}

func beforeValue(m *machine, c byte) {
	switch {
	case among(c, spaces):
	case among(c, `"'`):
		m.quote = c
		m.goTo(inQuotes, endTag)
	default:
		m.goTo(inValue, endTag)
		inValue(m, c)
	}
}

func inQuotes(m *machine, c byte) {
	if c == m.quote {
		m.keep()
		return
	}
	m.value += string([]byte{c})
}

func inValue(m *machine, c byte) {
	if among(c, spaces+">") {
		m.keep()
		betweenAttrs(m, c)
		return
	}
	m.value += string([]byte{c})
}

// keep ends an attribute.
func (m *machine) keep() {
	a := api.Attr{Name: clean(low(m.name)), Value: clean(ref.Decode(m.value, true))}
	if m.tag.Kind == api.Start && !slices.ContainsFunc(m.tag.Attrs, func(b api.Attr) bool { return a.Name == b.Name }) {
		m.tag.Attrs = append(m.tag.Attrs, a)
	}
	m.name, m.value = "", ""
	m.goTo(betweenAttrs, endTag)
}

func (m *machine) tellTag() {
	m.tag.Self = m.tag.Self && m.tag.Kind == api.Start
	m.tell(m.tag, m.at+1, true)
}

// wantPieces is all that the machine tells of s from a place on.
func wantPieces(s string, from int) []piece {
	m := machine{step: inData, end: endData}
	for m.at = from; m.at < len(s); m.at++ {
		m.step(&m, s[m.at])
	}
	m.end(&m)
	return m.told
}

// wantNext is what the chapter asks of Next.
func wantNext(s string, at int) piece {
	if l := wantPieces(s, inside(s, at)); len(l) > 0 {
		return l[0]
	}
	return piece{next: inside(s, at)}
}

// wantJoin is what the chapter asks of Join, of tokens as they are read.
func wantJoin(l []api.Token) []api.Token {
	var told []api.Token
	for _, t := range l {
		last := len(told) - 1
		switch {
		case t.Kind != api.Text:
			told = append(told, t)
		case t.Text == "":
		case last >= 0 && told[last].Kind == api.Text:
			told[last].Text += t.Text
		default:
			told = append(told, t)
		}
	}
	return told
}

// wantEnd is where a text ends, in one of the four states.
func wantEnd(s string, from, state int, name string) int {
	switch state {
	case api.Plaintext:
		return len(s)
	case api.Script:
		return programEnd(s, from)
	}
	told := len(s)
	// Of all places, gone through from the last one on, the first.
	for place := len(s) - len(name) - 3; place >= from; place-- {
		behind := place + 2 + len(name)
		if name != "" && s[place:place+2] == "</" && low(s[place+2:behind]) == name && among(s[behind], closers) {
			told = place
		}
	}
	return told
}

// word is the word of chapter 13.
const word = "[sS][cC][rR][iI][pP][tT][\t\n\f />]"

// programMarks is what changes what a program is within, or ends it: within no comment, within one, and within another program in one.
var programMarks = [3]*regexp.Regexp{regexp.MustCompile("<!--|</" + word), regexp.MustCompile("-->|</?" + word), regexp.MustCompile("-->|</" + word)}

// programEnd is where a program ends.
func programEnd(s string, at int) int {
	within := 0
	for {
		m := programMarks[within].FindStringIndex(s[at:])
		if m == nil {
			return len(s)
		}
		switch mark := s[at+m[0] : at+m[1]]; {
		case mark == "<!--":
			// Its strokes are looked at again, as an end's.
			within, at = 1, at+m[0]+2
			continue
		case mark == "-->":
			within = 0
		case mark[1] != '/':
			within = 2
		case within == 2:
			within = 1
		default:
			return at + m[0]
		}
		at += m[1]
	}
}

// wantRest is what the chapter asks of Rest.
func wantRest(s string, at, state int, name string) (l []api.Token, next int) {
	from := inside(s, at)
	if !slices.Contains(texts, state) {
		return nil, from
	}
	end := wantEnd(s, from, state, name)
	says := s[from:end]
	if state == api.Rcdata {
		says = ref.Decode(says, false)
	}
	if says != "" {
		l = append(l, api.Token{Kind: api.Text, Text: clean(says)})
	}
	if end+2 >= len(s) || !among(s[end+2], letters) {
		return l, end
	}
	ends := wantNext(s, end)
	if ends.ok {
		l = append(l, ends.t)
	}
	return l, ends.next
}

// wantTok is what the chapter asks of Tok.
func wantTok(s string, state int, name string) []api.Token {
	if state != api.Data && !slices.Contains(texts, state) {
		return nil
	}
	l, at := wantRest(s, 0, state, name)
	for _, p := range wantPieces(s, at) {
		if p.ok {
			l = append(l, p.t)
		}
	}
	return wantJoin(l)
}

// layersNext is what the packages of the layers below make of a place of s.
func layersNext(s string, at int) piece {
	from := inside(s, at)
	if text.Begins(s, from) {
		for _, read := range []func(string, int) (api.Token, int, bool){tag.Read, comment.Read, doctype.Read} {
			if t, next, ok := read(s, from); next != from {
				return piece{t, next, ok}
			}
		}
		return piece{next: from + 3}
	}
	if says, next := text.Read(s, from); next > from {
		return piece{api.Token{Kind: api.Text, Text: says}, next, true}
	}
	return piece{next: from}
}

// layersRest is what they make of a text in one of the four states.
func layersRest(s string, at, state int, name string) (l []api.Token, next int) {
	from := inside(s, at)
	end, says := len(s), lines.Clean(s[from:])
	switch state {
	case api.Rcdata:
		end = raw.Find(s, from, name)
		says = raw.Text(s[from:end], true)
	case api.Rawtext:
		end = raw.Find(s, from, name)
		says = raw.Text(s[from:end], false)
	case api.Script:
		end, _ = script.Find(s, from)
		says = script.Text(s[from:end])
	}
	if says != "" {
		l = append(l, api.Token{Kind: api.Text, Text: says})
	}
	if end == len(s) {
		return l, end
	}
	t, next, ok := tag.Read(s, end)
	if ok {
		l = append(l, t)
	}
	return l, next
}

// checkNext checks Next at one place of s.
func checkNext(t *testing.T, s string, at int) {
	t.Helper()
	got := gotNext(s, at)
	for _, want := range []piece{wantNext(s, at), layersNext(s, at)} {
		if !samePiece(got, want) {
			t.Errorf("Next(%q, %d): %s, %d, %t, want %s, %d, %t", short(s), at, show([]api.Token{got.t}), got.next, got.ok, show([]api.Token{want.t}), want.next, want.ok)
		}
	}
	if !got.ok && !sameToken(got.t, api.Token{}) {
		t.Errorf("Next(%q, %d): %s, though there is none", short(s), at, show([]api.Token{got.t}))
	}
	if from := inside(s, at); got.next > len(s) || from < len(s) && got.next <= from {
		t.Errorf("Next(%q, %d): %d", short(s), at, got.next)
	}
}

// checkRest checks Rest at one place of s.
func checkRest(t *testing.T, s string, at, state int, name string) {
	t.Helper()
	l, next := Rest(s, at, state, name)
	want, wantPlace := wantRest(s, at, state, name)
	if !sameTokens(l, want) || next != wantPlace {
		t.Errorf("Rest(%q, %d, %d, %q): %s, %d, want %s, %d", short(s), at, state, short(name), show(l), next, show(want), wantPlace)
	}
	if !slices.Contains(texts, state) {
		return
	}
	want, wantPlace = layersRest(s, at, state, name)
	if !sameTokens(l, want) || next != wantPlace {
		t.Errorf("Rest(%q, %d, %d, %q): %s, %d, by the layers below %s, %d", short(s), at, state, short(name), show(l), next, show(want), wantPlace)
	}
}

// checkTok checks Tok of s, and what follows of it (P15.5).
func checkTok(t *testing.T, s string, state int, name string) {
	t.Helper()
	l := Tok(s, state, name)
	if want := wantTok(s, state, name); !sameTokens(l, want) {
		t.Errorf("Tok(%q, %d, %q): %s, want %s", short(s), state, short(name), show(l), show(want))
	}
	checkJoined(t, l)
	if again := Join(l); !sameTokens(again, l) {
		t.Errorf("Join of what Tok(%q, %d, %q) tells, %s: %s", short(s), state, short(name), show(l), show(again))
	}
}

// checkJoined checks that no two texts stand side by side in l, and none says nothing.
func checkJoined(t *testing.T, l []api.Token) {
	t.Helper()
	for k, one := range l {
		if one.Kind == api.Text && (one.Text == "" || k > 0 && l[k-1].Kind == api.Text) {
			t.Errorf("the token %d of %s", k, show(l))
		}
	}
}

// checkRead checks that all of s is read: from each place Next goes on, to the end, and what it tells on its way is what Tok tells.
func checkRead(t *testing.T, s string) {
	t.Helper()
	var l []api.Token
	at := 0
	for at < len(s) {
		one, next, ok := Next(s, at)
		if next <= at || next > len(s) {
			t.Fatalf("Next(%q, %d): %d", short(s), at, next)
		}
		if ok {
			l = append(l, one)
		}
		at = next
	}
	if got := Tok(s, api.Data, ""); at != len(s) || !sameTokens(got, wantJoin(l)) {
		t.Errorf("Tok(%q): %s, piece by piece %s", short(s), show(got), show(l))
	}
}

// check checks all calls that take a text, at each place of s, and beside them, in each state, with those names.
func check(t *testing.T, s string, names ...string) {
	t.Helper()
	checkRead(t, s)
	checkTok(t, s, api.Data, "")
	names = append([]string{"b", "script", ""}, names...)
	for at := -2; at <= len(s)+2; at++ {
		checkNext(t, s, at)
		for _, name := range names {
			for _, state := range texts {
				checkRest(t, s, at, state, name)
			}
		}
	}
	for _, at := range farAway() {
		checkNext(t, s, at)
		for _, state := range texts {
			checkRest(t, s, at, state, names[len(names)-1])
		}
	}
	for _, name := range names {
		for _, state := range texts {
			checkTok(t, s, state, name)
		}
	}
}

func TestPlacesThatAreNotThere(t *testing.T) {
	for _, x := range []struct{ s, first string }{
		{"", ""}, {"a", `T"a"`}, {"a<b>", `T"a"`}, {"<b>a", "S<b>"}, {"</b>", "E<b>"}, {"<!--a-->b", `C"a"`}, {"<!doctype>b", "D"}, {"&lt;", `T"<"`}, {"<", `T"<"`}, {"</", `T"</"`}, {"\x00", `T"\x00"`},
	} {
		for _, at := range append(farAway(), -9, -3, -2, -1, 0) {
			one, next, ok := Next(x.s, at)
			switch first, firstNext, firstOk := Next(x.s, 0); {
			case at > len(x.s):
				if !sameToken(one, api.Token{}) || next != len(x.s) || ok {
					t.Errorf("Next(%q, %d): %s, %d, %t", x.s, at, show([]api.Token{one}), next, ok)
				}
			case !sameToken(one, first) || next != firstNext || ok != firstOk || ok != (x.s != "") || ok && show([]api.Token{one}) != x.first:
				t.Errorf("Next(%q, %d): %s, %d, %t", x.s, at, show([]api.Token{one}), next, ok)
			}
		}
		for _, beyond := range []int{0, 1, 2, 3, 9, 99} {
			if one, next, ok := Next(x.s, len(x.s)+beyond); !sameToken(one, api.Token{}) || next != len(x.s) || ok {
				t.Errorf("Next(%q, %d): %s, %d, %t", x.s, len(x.s)+beyond, show([]api.Token{one}), next, ok)
			}
		}
		check(t, x.s)
	}
}

func TestNext(t *testing.T) {
	for _, x := range []struct {
		s    string
		at   int
		want string
		next int
		ok   bool
	}{
		// Each of the four kinds of markup.
		{"<b>", 0, "S<b>", 3, true}, {"<A X=1 y='&lt;' x=2 />c", 0, `S<a> x="1" y="<"/`, 22, true}, {"<A X=1/>c", 0, `S<a> x="1/"`, 8, true}, {"<b/>", 0, "S<b>/", 4, true}, {"<b", 0, "?", 2, false}, {"<b x='>", 0, "?", 7, false}, {"<b x=\">'>c</b>", 0, "?", 14, false},
		{"</b>", 0, "E<b>", 4, true}, {"</B x='>'/>c", 0, "E<b>", 11, true}, {"</b", 0, "?", 3, false}, {"</b x='>c", 0, "?", 9, false},
		{"<!--a-->b", 0, `C"a"`, 8, true}, {"<!--a", 0, `C"a"`, 5, true}, {"<!-->a-->", 0, "C", 5, true}, {"<!>", 0, "C", 3, true}, {"<!a>b", 0, `C"a"`, 4, true}, {"<!", 0, "C", 2, true}, {"<?x>y", 0, `C"?x"`, 4, true}, {"<?", 0, `C"?"`, 2, true}, {"</ b>c", 0, `C" b"`, 5, true}, {"</1", 0, `C"1"`, 3, true}, {"<!--\x00-->", 0, `C"` + bad + `"`, 8, true}, {"<!--&lt;-->", 0, `C"&lt;"`, 11, true},
		{"<!doctype html>a", 0, `D" html"`, 15, true}, {"<!DocType", 0, "D", 9, true}, {"<!doctype>", 0, "D", 10, true}, {"<!doctypes \x00>", 0, `D"s ` + bad + `"`, 13, true}, {"<!doctyp>", 0, `C"doctyp"`, 9, true},
		// An end without a name: a zero token, and the place behind it.
		{"</>", 0, "?", 3, false}, {"</>a", 0, "?", 3, false}, {"a</>b", 1, "?", 4, false}, {"</></>", 3, "?", 6, false}, {"</>", -5, "?", 3, false}, {"</ >", 0, `C" "`, 4, true}, {"<//>", 0, `C"/"`, 4, true},
		// Text up to the next markup, and to the end.
		{"a<b>c", 0, `T"a"`, 1, true}, {"a<b>c", 4, `T"c"`, 5, true}, {"a</>b", 0, `T"a"`, 1, true}, {"a</>b", 4, `T"b"`, 5, true}, {"a<!--", 0, `T"a"`, 1, true}, {"a<!doctype", 0, `T"a"`, 1, true}, {"a<?", 0, `T"a"`, 1, true}, {"a</1", 0, `T"a"`, 1, true}, {"a</b", 0, `T"a"`, 1, true}, {"a < b > c", 0, `T"a < b > c"`, 9, true}, {"a<", 0, `T"a<"`, 2, true}, {"a</", 0, `T"a</"`, 3, true}, {"<<b>", 0, `T"<"`, 1, true}, {"<1<b>", 0, `T"<1"`, 2, true}, {" ", 0, `T" "`, 1, true}, {"\n<b>", 0, `T"\n"`, 1, true},
		// Nothing but references: by names and numbers; they are read once.
		{"&lt;", 0, `T"<"`, 4, true}, {"&amp;lt;b>", 0, `T"&lt;b>"`, 10, true}, {"&#60;b>", 0, `T"<b>"`, 7, true}, {"&lt;/b>", 0, `T"</b>"`, 7, true}, {"&#0;<b>", 0, `T"` + bad + `"`, 4, true}, {"&#x41&#66;", 0, `T"AB"`, 10, true}, {"&notit;", 0, `T"¬it;"`, 7, true}, {"&copy=1", 0, `T"©=1"`, 7, true}, {"&NotEqualTilde;&lt", 0, "T\"\u2242\u0338<\"", 18, true}, {"&", 0, `T"&"`, 1, true}, {"&am<b>p;", 0, `T"&am"`, 3, true}, {"&am</>p;", 6, `T"p;"`, 8, true},
		// The byte 0 and lines' ends stay in it.
		{"a\x00", 0, `T"a\x00"`, 2, true}, {"\x00<b>", 0, `T"\x00"`, 1, true}, {"a\r\n\r", 0, `T"a\r\n\r"`, 4, true}, {"<\x00b>", 0, `T"<\x00b>"`, 4, true}, {"<b\x00>", 0, "S<b" + bad + ">", 4, true},
		// In the midst of what is markup from another place on.
		{"<b>", 1, `T"b>"`, 3, true}, {"</b>", 1, `T"/b>"`, 4, true}, {"<!--a-->", 1, `T"!--a-->"`, 8, true}, {"<!--<b>-->", 4, "S<b>", 7, true}, {"<b x='<c>'>", 6, "S<c>", 9, true}, {"</>", 1, `T"/>"`, 3, true}, {"<!doctype>", 5, `T"type>"`, 10, true}, {"&lt;", 1, `T"lt;"`, 4, true},
		// At the end, and beyond it.
		{"", 0, "?", 0, false}, {"a", 1, "?", 1, false}, {"a<b>", 4, "?", 4, false}, {"a<b", 3, "?", 3, false}, {"a", 9, "?", 1, false}, {"</>", 3, "?", 3, false}, {"<b>", math.MaxInt, "?", 3, false}, {"", math.MinInt, "?", 0, false}, {"<b>", math.MinInt, "S<b>", 3, true},
	} {
		one, next, ok := Next(x.s, x.at)
		got := show([]api.Token{one})
		if !ok && sameToken(one, api.Token{}) {
			got = "?"
		}
		if got != x.want || next != x.next || ok != x.ok {
			t.Errorf("Next(%q, %d): %s, %d, %t, want %s, %d, %t", x.s, x.at, got, next, ok, x.want, x.next, x.ok)
		}
		check(t, x.s)
	}
}

// wholes is markup of each kind, and what is told of it: its token, or none; and how many bytes of it there must be so that it begins.
var wholes = []struct {
	s, want string
	n       int
}{
	{"<b>", "S<b>", 2}, {"<Bc x y='z>'/>", `S<bc> x="" y="z>"/`, 2}, {"<script a=b>", `S<script> a="b"`, 2}, {"</b>", "E<b>", 3}, {"</Bc x='>' >", "E<bc>", 3}, {"</>", "", 3},
	{"<!--a-->", `C"a"`, 2}, {"<!-->", "C", 2}, {"<!--->", "C", 2}, {"<!----!>", "C", 2}, {"<!-a>", `C"-a"`, 2}, {"<![CDATA[a]]>", `C"[CDATA[a]]"`, 2}, {"<!>", "C", 2}, {"<?x y?>", `C"?x y?"`, 2}, {"</ b>", `C" b"`, 3}, {"</!>", `C"!"`, 3},
	{"<!doctype html>", `D" html"`, 2}, {"<!DOCTYPE>", "D", 2}, {"<!doctypea 'b'>", `D"a 'b'"`, 2},
}

func TestEachKindOfMarkup(t *testing.T) {
	around := []string{"", "a", " ", "<", "</>", "&amp;", "&lt", "<c>", "</c>", "<!---->", "<!doctype c>", "\x00", "\xff", ">", "-->", "'"}
	for _, x := range wholes {
		want := piece{next: len(x.s)}
		if x.want != "" {
			want = wantNext(x.s, 0)
		}
		if got := show([]api.Token{want.t}); x.want != "" && got != x.want {
			t.Fatalf("%q: %s", x.s, got)
		}
		for _, ahead := range around {
			for _, behind := range around {
				s := ahead + x.s + behind
				moved := want
				moved.next += len(ahead)
				if got := gotNext(s, len(ahead)); !samePiece(got, moved) {
					t.Errorf("Next(%q, %d): %s, %d, %t", s, len(ahead), show([]api.Token{got.t}), got.next, got.ok)
				}
				checkRead(t, s)
				checkTok(t, s, api.Data, "")
			}
		}
		check(t, x.s)
	}
}

func TestMarkupCutShort(t *testing.T) {
	for _, x := range wholes {
		for n := range len(x.s) {
			s := "a" + x.s[:n]
			check(t, s)
			check(t, x.s[:n]+x.s[n+1:])
			check(t, x.s[:n]+x.s)
			got := gotNext(s, 1)
			tagged := x.want == "" || strings.Contains("SE", x.want[:1])
			switch {
			case n == 0:
				// The text's end.
				if !samePiece(got, piece{next: 1}) {
					t.Errorf("Next(%q, 1): %s, %d, %t", s, show([]api.Token{got.t}), got.next, got.ok)
				}
			case n < x.n:
				// It is text yet.
				if got.t.Kind != api.Text || got.t.Text != x.s[:n] || got.next != len(s) || !got.ok {
					t.Errorf("Next(%q, 1): %s, %d, %t", s, show([]api.Token{got.t}), got.next, got.ok)
				}
				if l := Tok(s, api.Data, ""); len(l) != 1 || l[0].Text != s {
					t.Errorf("Tok(%q): %s", s, show(l))
				}
			case tagged:
				// A tag that isn't ended: nothing is told, and all is read.
				if !samePiece(got, piece{next: len(s)}) {
					t.Errorf("Next(%q, 1): %s, %d, %t", s, show([]api.Token{got.t}), got.next, got.ok)
				}
				if l := Tok(s, api.Data, ""); len(l) != 1 || l[0].Text != "a" {
					t.Errorf("Tok(%q): %s", s, show(l))
				}
			default:
				// A comment or a doctype goes on to the end.
				if got.t.Kind != api.Comment && got.t.Kind != api.Doctype || got.next != len(s) || !got.ok {
					t.Errorf("Next(%q, 1): %s, %d, %t", s, show([]api.Token{got.t}), got.next, got.ok)
				}
			}
		}
	}
}

func TestTextsThatReferencesTell(t *testing.T) {
	// No text is nothing, whatever reference it is.
	for _, line := range strings.Split(strings.TrimSpace(api.Names), "\n") {
		name, _, _ := strings.Cut(line, " ")
		s := "&" + name
		want := ref.Decode(s, false)
		if one, next, ok := Next(s, 0); want == "" || one.Kind != api.Text || one.Text != want || next != len(s) || !ok {
			t.Errorf("Next(%q, 0): %q, %d, %t", s, one.Text, next, ok)
		}
		if one, next, ok := Next(s+"<b>", 0); one.Kind != api.Text || one.Text != want || next != len(s) || !ok {
			t.Errorf("Next(%q, 0): %q, %d, %t", s+"<b>", one.Text, next, ok)
		}
		for state, says := range map[int]string{api.Rcdata: want, api.Rawtext: s, api.Script: s, api.Plaintext: s + "</script>"} {
			l, next := Rest(s+"</script>", 0, state, "script")
			if len(l) == 0 || l[0].Kind != api.Text || l[0].Text != says || next != len(s)+9 || len(l) != 2 && state != api.Plaintext {
				t.Errorf("Rest(%q, 0, %d, script): %s, %d", s+"</script>", state, show(l), next)
			}
		}
	}
	for n := range 300 {
		for _, s := range []string{"&#" + strconv.Itoa(n) + ";", "&#x" + strconv.FormatInt(int64(n), 16) + ";"} {
			if one, next, ok := Next(s, 0); one.Text != ref.Decode(s, false) || one.Text == "" || next != len(s) || !ok {
				t.Errorf("Next(%q, 0): %q, %d, %t", s, one.Text, next, ok)
			}
			check(t, s)
		}
	}
}

func TestRest(t *testing.T) {
	both := []int{api.Rcdata, api.Rawtext}
	all := []int{api.Rcdata, api.Rawtext, api.Script}
	for _, x := range []struct {
		s      string
		at     int
		states []int
		name   string
		want   string
		next   int
	}{
		// A tag's end that matches the name, in whatever letters, with whatever behind it.
		{"a</script>c", 0, all, "script", `T"a";E<script>`, 10}, {"a</SCRIPT>c", 0, all, "script", `T"a";E<script>`, 10}, {"a</sCriPt >c", 0, all, "script", `T"a";E<script>`, 11}, {"a</script/>c", 0, all, "script", `T"a";E<script>`, 11}, {"a</script\n\t\f/ / >c", 0, all, "script", `T"a";E<script>`, 17}, {"a</script x='>' y>c", 0, all, "script", `T"a";E<script>`, 18}, {"a</script/x=>c", 0, all, "script", `T"a";E<script>`, 13}, {"a</script <b>c", 0, all, "script", `T"a";E<script>`, 13},
		{"a</b>c", 0, both, "b", `T"a";E<b>`, 5}, {"a</B>c</b>", 0, both, "b", `T"a";E<b>`, 5}, {"<b></b>", 0, both, "b", `T"<b>";E<b>`, 7}, {"<!--</b>-->", 0, both, "b", `T"<!--";E<b>`, 8}, {"<a x='</b>'>", 0, both, "b", `T"<a x='";E<b>`, 10}, {"</</b>", 0, both, "b", `T"</";E<b>`, 6}, {"<</b>", 0, both, "b", `T"<";E<b>`, 5}, {"</></b>", 0, both, "b", `T"</>";E<b>`, 7},
		// A text that says nothing: no token of it.
		{"</script>c", 0, all, "script", "E<script>", 9}, {"</b>", 0, both, "b", "E<b>", 4}, {"", 0, texts, "b", "", 0}, {"a</b></b>", 5, both, "b", "E<b>", 9},
		// Another name, one that goes on, and none.
		{"a</b>c", 0, all, "c", `T"a</b>c"`, 6}, {"a</bc>d", 0, all, "b", `T"a</bc>d"`, 7}, {"a</b>d", 0, all, "bc", `T"a</b>d"`, 6}, {"a</bc></b>", 0, both, "b", `T"a</bc>";E<b>`, 10}, {"a</scripts></script>", 0, all, "script", `T"a</scripts>";E<script>`, 20}, {"a</ b>", 0, both, "b", `T"a</ b>"`, 6}, {"a</b\x00>", 0, both, "b", `T"a</b` + bad + `>"`, 6}, {"a</b\r>", 0, both, "b", `T"a</b\r>"`, 6}, {"a</b\v>", 0, both, "b", `T"a</b\v>"`, 6}, {"a<b>", 0, all, "b", `T"a<b>"`, 4}, {"a", 0, texts, "b", `T"a"`, 1}, {"</", 0, texts, "b", `T"</"`, 2},
		// One that isn't ended: nothing of it is told.
		{"a</b x", 0, both, "b", `T"a"`, 6}, {"a</b ", 0, both, "b", `T"a"`, 5}, {"a</b/", 0, both, "b", `T"a"`, 5}, {"</b x='>", 0, both, "b", "", 8}, {"</b x='></b>", 0, both, "b", "", 12}, {"a</b", 0, both, "b", `T"a</b"`, 4}, {"</script x", 0, all, "script", "", 10}, {"</script", 0, all, "script", `T"</script"`, 8},
		// References, in one state alone; the byte 0 in all.
		{"a&lt;&amp;b>&#65</b>", 0, []int{api.Rcdata}, "b", `T"a<&b>A";E<b>`, 20}, {"a&lt;&amp;b>&#65</b>", 0, []int{api.Rawtext}, "b", `T"a&lt;&amp;b>&#65";E<b>`, 20}, {"&lt;</script>", 0, []int{api.Script}, "b", `T"&lt;";E<script>`, 13}, {"&lt;</b>", 0, []int{api.Plaintext}, "b", `T"&lt;</b>"`, 8}, {"&lt;/b></b>", 0, []int{api.Rcdata}, "b", `T"</b>";E<b>`, 11}, {"&copy=1&notit;", 0, []int{api.Rcdata}, "b", `T"©=1¬it;"`, 14}, {"&am</b>p;", 0, []int{api.Rcdata}, "b", `T"&am";E<b>`, 7}, {"&amp</b>;", 0, []int{api.Rcdata}, "b", `T"&";E<b>`, 8}, {"&#0;\x00", 0, []int{api.Rcdata}, "b", `T"` + bad + bad + `"`, 5}, {"&#0;\x00", 0, []int{api.Rawtext, api.Script, api.Plaintext}, "b", `T"&#0;` + bad + `"`, 5}, {"\x00</script>\x00", 0, all, "script", `T"` + bad + `";E<script>`, 10}, {"\x00</script>\x00", 0, []int{api.Plaintext}, "script", `T"` + bad + `</script>` + bad + `"`, 11}, {"a\r\nb\r", 0, texts, "b", `T"a\r\nb\r"`, 5},
		// Names that no tag has.
		{"a</b>c", 0, both, "", `T"a</b>c"`, 6}, {"</>", 0, both, "", `T"</>"`, 3}, {"</ >", 0, both, "", `T"</ >"`, 4}, {"a</1>c", 0, both, "1", `T"a"`, 1}, {"</1>c", 0, both, "1", "", 0}, {"a</!>c", 0, both, "!", `T"a"`, 1}, {"a<//>c", 0, both, "/", `T"a"`, 1}, {"a<///>c", 0, both, "/", `T"a"`, 1}, {"a<//c>", 0, both, "/", `T"a<//c>"`, 6}, {"a<//>c<//>", 0, both, "", `T"a<//>c<//>"`, 10}, {"a</</>c", 0, both, "<", `T"a"`, 1}, {"a</>>c", 0, both, ">", `T"a"`, 1}, {"a</ >c", 0, both, " ", `T"a"`, 1}, {"a</ c>", 0, both, " ", `T"a</ c>"`, 6}, {"a</  >c", 0, both, " ", `T"a"`, 1}, {"a</B>c", 0, both, "B", `T"a</B>c"`, 6}, {"a</b>c", 0, both, "B", `T"a</b>c"`, 6}, {"a</\xe9>c", 0, both, "\xe9", `T"a"`, 1}, {"a</\x00>c", 0, both, "\x00", `T"a"`, 1},
		// A name that has a byte of a name's end in it: the tag that is read is another one.
		{"a</b c>d", 0, both, "b c", `T"a";E<b>`, 7}, {"a</b/c>d", 0, both, "b/c", `T"a";E<b>`, 7}, {"a</b>c>d", 0, both, "b>c", `T"a";E<b>`, 5}, {"a</b>>d", 0, both, "b>", `T"a";E<b>`, 5}, {"a</b>d", 0, both, "b>", `T"a</b>d"`, 6}, {"a</b >d", 0, both, "b ", `T"a";E<b>`, 6}, {"a</b c>d", 0, both, "b ", `T"a</b c>d"`, 8}, {"a</b  >d", 0, both, "b ", `T"a";E<b>`, 7}, {"a</b x='>d", 0, both, "b x='", `T"a"`, 10}, {"a</B X=1>d", 0, both, "b x=1", `T"a";E<b>`, 9},
		{"a</b\x00>d", 0, both, "b\x00", `T"a";E<b` + bad + ">", 6}, {"a</b\x00>d", 0, both, "b" + bad, `T"a</b` + bad + `>d"`, 7}, {"a</b" + bad + ">d", 0, both, "b" + bad, `T"a";E<b` + bad + ">", 8},
		// A program: its name isn't asked for, and what stands in a comment may be another one.
		{"a</b></script>", 0, []int{api.Script}, "b", `T"a</b>";E<script>`, 14}, {"a</script>", 0, []int{api.Script}, "", `T"a";E<script>`, 10}, {"<!--<script></script></script><b>", 0, []int{api.Script}, "x", `T"<!--<script></script>";E<script>`, 30}, {"<!--<script></script>--></script>", 0, []int{api.Script}, "script", `T"<!--<script></script>-->";E<script>`, 33}, {"<!--<script></script>", 0, []int{api.Script}, "script", `T"<!--<script></script>"`, 21}, {"<!--</script>-->", 0, []int{api.Script}, "script", `T"<!--";E<script>`, 13}, {"<!--<script></script>", 4, []int{api.Script}, "script", `T"<script>";E<script>`, 21}, {"<!--<script></script>", 0, both, "script", `T"<!--<script>";E<script>`, 21}, {"<!-->  <script></script>", 0, []int{api.Script}, "script", `T"<!-->  <script>";E<script>`, 24}, {"<!--<script>a<script></script></script>b", 0, []int{api.Script}, "script", `T"<!--<script>a<script></script>";E<script>`, 39},
		// To the end, whatever is in it.
		{"a</b></plaintext><!--</script>&lt;\x00<", 0, []int{api.Plaintext}, "plaintext", `T"a</b></plaintext><!--</script>&lt;` + bad + `<"`, 36}, {"</plaintext>", 0, []int{api.Plaintext}, "plaintext", `T"</plaintext>"`, 12}, {"a</b>", 2, []int{api.Plaintext}, "", `T"/b>"`, 5}, {"</>", 0, []int{api.Plaintext}, "", `T"</>"`, 3},
		// From places below 0, in the midst, and beyond the text.
		{"ab</p >c", 1, both, "p", `T"b";E<p>`, 7}, {"a</p>", -1, both, "p", `T"a";E<p>`, 5}, {"a</p>", math.MinInt, both, "p", `T"a";E<p>`, 5}, {"a</p>", 2, both, "p", `T"/p>"`, 5}, {"a</p>", 3, texts, "p", `T"p>"`, 5}, {"a</p>", 5, texts, "p", "", 5}, {"a</p>", 6, texts, "p", "", 5}, {"a</p>", math.MaxInt, texts, "p", "", 5}, {"a</script>", -7, all, "script", `T"a";E<script>`, 10}, {"a</script>", math.MaxInt - 1, all, "script", "", 10}, {"", math.MinInt, texts, "p", "", 0}, {"", 1, texts, "p", "", 0}, {"a</p>", math.MinInt, []int{api.Plaintext}, "p", `T"a</p>"`, 5},
	} {
		for _, state := range x.states {
			l, next := Rest(x.s, x.at, state, x.name)
			if got := show(l); got != x.want || next != x.next {
				t.Errorf("Rest(%q, %d, %d, %q): %s, %d, want %s, %d", x.s, x.at, state, x.name, got, next, x.want, x.next)
			}
		}
		check(t, x.s, x.name)
	}
}

func TestRestOfOtherStates(t *testing.T) {
	for _, state := range append(noStates, api.Data) {
		for _, s := range []string{"", "a", "a</b>", "</script>", "<b>", "\x00&lt;"} {
			for _, name := range []string{"", "b", "script"} {
				for at := -3; at <= len(s)+3; at++ {
					if l, next := Rest(s, at, state, name); len(l) != 0 || next != inside(s, at) {
						t.Errorf("Rest(%q, %d, %d, %q): %s, %d", s, at, state, name, show(l), next)
					}
				}
				for _, at := range farAway() {
					if l, next := Rest(s, at, state, name); len(l) != 0 || next != inside(s, at) {
						t.Errorf("Rest(%q, %d, %d, %q): %s, %d", s, at, state, name, show(l), next)
					}
				}
				if l := Tok(s, state, name); len(l) != 0 && state != api.Data {
					t.Errorf("Tok(%q, %d, %q): %s", s, state, name, show(l))
				}
			}
		}
	}
}

func TestEndsCutShort(t *testing.T) {
	for _, name := range []string{"b", "title", "script", "x-1", "a:b"} {
		for _, end := range []string{">", " >", "/>", "\n x='>' y>", " / z=1/>"} {
			whole := "a</" + name + end
			for n := range len(whole) + 1 {
				s := whole[:n]
				for _, state := range []int{api.Rcdata, api.Rawtext, api.Script} {
					want, text := "", s
					if n > len(name)+3 && (state != api.Script || name == "script") {
						text = "a"
					}
					if text != "" {
						want = "T" + strconv.Quote(text)
					}
					if n == len(whole) && text == "a" {
						want += ";E<" + name + ">"
					}
					l, next := Rest(s, 0, state, name)
					if got := show(l); got != want || next != len(s) {
						t.Errorf("Rest(%q, 0, %d, %q): %s, %d", s, state, name, got, next)
					}
					if l := Tok(s, state, name); show(l) != want {
						t.Errorf("Tok(%q, %d, %q): %s", s, state, name, show(l))
					}
				}
				check(t, s, name)
				if n < len(whole) {
					check(t, s+whole[n+1:], name)
				}
			}
		}
	}
}

func TestEachByteBehindAName(t *testing.T) {
	for _, c := range eachByte() {
		for _, name := range []string{"b", "script"} {
			s := "a</" + name + c + ">d"
			ends := strings.Contains(closers, c)
			for _, state := range []int{api.Rcdata, api.Rawtext, api.Script} {
				l, next := Rest(s, 0, state, name)
				if state == api.Script && name == "b" {
					continue
				}
				if ends && (len(l) != 2 || l[0].Text != "a" || l[1].Kind != api.End || l[1].Name != name) || !ends && (len(l) != 1 || next != len(s)) {
					t.Errorf("Rest(%q, 0, %d, %q): %s, %d", s, state, name, show(l), next)
				}
			}
			check(t, s, name)
			check(t, "</"+c+name+">"+c, c, c+name)
		}
	}
	for _, name := range []string{"style", "h1", "script"} {
		for _, mixed := range eachCase(name) {
			s := "a</" + mixed + " x>c"
			for _, state := range []int{api.Rcdata, api.Rawtext} {
				if l := Tok(s, state, name); show(l) != `T"a";E<`+name+`>;T"c"` {
					t.Errorf("Tok(%q, %d, %q): %s", s, state, name, show(l))
				}
				// A name that is asked for with a large letter ends nowhere.
				if l := Tok(s, state, mixed); mixed != name && show(l) != `T"a</`+mixed+` x>c"` {
					t.Errorf("Tok(%q, %d, %q): %s", s, state, mixed, show(l))
				}
			}
			checkTok(t, s, api.Script, name)
		}
	}
}

func TestTok(t *testing.T) {
	for _, x := range []struct {
		s     string
		state int
		name  string
		want  string
	}{
		{"", api.Data, "", ""}, {"a", api.Data, "", `T"a"`}, {"a<b>c</>d", api.Data, "", `T"a";S<b>;T"cd"`},
		// Markup of all kinds side by side.
		{"<!DOCTYPE html><!--a--><b></b><?c></ d><!e>", api.Data, "", `D" html";C"a";S<b>;E<b>;C"?c";C" d";C"e"`}, {"<b></b><b/></b/>", api.Data, "", "S<b>;E<b>;S<b>/;E<b>"}, {"a<b>c</b>d<!--e-->f<!doctype g>h", api.Data, "", `T"a";S<b>;T"c";E<b>;T"d";C"e";T"f";D" g";T"h"`}, {"<a x='<b>' y/>", api.Data, "", `S<a> x="<b>" y=""/`}, {"<!-->a-->", api.Data, "", `C;T"a-->"`}, {"<p>&lt;p></p>", api.Data, "", `S<p>;T"<p>";E<p>`},
		// Ends without a name: one text of those around them.
		{"</>", api.Data, "", ""}, {"</></>", api.Data, "", ""}, {"</>a", api.Data, "", `T"a"`}, {"a</>", api.Data, "", `T"a"`}, {"a</></>b</>c", api.Data, "", `T"abc"`}, {"a</>b<i></></i>", api.Data, "", `T"ab";S<i>;E<i>`}, {"a</><b></>c", api.Data, "", `T"a";S<b>;T"c"`},
		// Each text is read by itself: what it tells isn't read again, and a reference doesn't go on behind them.
		{"&am</>p;", api.Data, "", `T"&amp;"`}, {"&amp</>;", api.Data, "", `T"&;"`}, {"&</>lt;", api.Data, "", `T"&lt;"`}, {"<</>b>", api.Data, "", `T"<b>"`}, {"&lt</>;b", api.Data, "", `T"<;b"`}, {"&#6</>5;", api.Data, "", `T"\x065;"`},
		// A tag that isn't ended: nothing of it is told, and all is read.
		{"a<b", api.Data, "", `T"a"`}, {"a<b x='>c</b>d", api.Data, "", `T"a"`}, {"<b", api.Data, "", ""}, {"a</b", api.Data, "", `T"a"`}, {"a</b x=\">c", api.Data, "", `T"a"`}, {"a<b>c<d", api.Data, "", `T"a";S<b>;T"c"`}, {"a<", api.Data, "", `T"a<"`}, {"a</", api.Data, "", `T"a</"`}, {"a</>b<c", api.Data, "", `T"ab"`},
		// A comment, or a doctype, that isn't: all is of it.
		{"a<!--b<c>", api.Data, "", `T"a";C"b<c>"`}, {"a<!doctype b<c", api.Data, "", `T"a";D" b<c"`}, {"a<?b<c", api.Data, "", `T"a";C"?b<c"`},
		// In data no tag makes text of what stands behind it, and the name plays no part.
		{"<script><b></script>", api.Data, "script", "S<script>;S<b>;E<script>"}, {"<title>&lt;<b></title>", api.Data, "title", `S<title>;T"<";S<b>;E<title>`}, {"<plaintext><b>", api.Data, "plaintext", "S<plaintext>;S<b>"}, {"a\x00", api.Data, "b", `T"a\x00"`},
		// The four others: as data from where they end.
		{"a<b>&lt;</title>c&lt;<b>", api.Rcdata, "title", `T"a<b><";E<title>;T"c<";S<b>`}, {"a&lt;</STYLE x>c&lt;", api.Rawtext, "style", `T"a&lt;";E<style>;T"c<"`}, {"\x00</b>\x00", api.Rawtext, "b", `T"` + bad + `";E<b>;T"\x00"`}, {"\x00</b>\x00", api.Rcdata, "b", `T"` + bad + `";E<b>;T"\x00"`}, {"\x00</script>\x00", api.Script, "b", `T"` + bad + `";E<script>;T"\x00"`}, {"a</b>\x00", api.Plaintext, "b", `T"a</b>` + bad + `"`}, {"<!--<script></script></script><b>", api.Script, "x", `T"<!--<script></script>";E<script>;S<b>`}, {"a</b></b>c", api.Rawtext, "b", `T"a";E<b>;E<b>;T"c"`}, {"</b><script></b>", api.Rawtext, "b", "E<b>;S<script>;E<b>"}, {"</b>", api.Rcdata, "b", "E<b>"}, {"</b></>a</>b", api.Rcdata, "b", `E<b>;T"ab"`}, {"a</b", api.Rcdata, "b", `T"a</b"`}, {"a</b x", api.Rcdata, "b", `T"a"`}, {"a</>b</b>c</>d", api.Rcdata, "b", `T"a</>b";E<b>;T"cd"`}, {"", api.Rcdata, "b", ""}, {"", api.Plaintext, "", ""}, {"a</b>c", api.Rawtext, "", `T"a</b>c"`},
		// An end that is no tag's: what stands there is data, and stays beside the text.
		{"a</1>c", api.Rawtext, "1", `T"a";C"1";T"c"`}, {"</1>&lt;", api.Rcdata, "1", `C"1";T"<"`}, {"a<//>c", api.Rawtext, "/", `T"a";C"/";T"c"`}, {"a<///>c", api.Rawtext, "/", `T"a";C"//";T"c"`}, {"a<//c>", api.Rawtext, "/", `T"a<//c>"`}, {"a<//  >c", api.Rcdata, "/", `T"a";C"/  ";T"c"`}, {"a</>>c", api.Rawtext, ">", `T"a>c"`}, {"</>>&amp;", api.Rawtext, ">", `T">&"`}, {"&amp;</>>&amp;", api.Rcdata, ">", `T"&>&"`}, {"&amp;</>>&amp;\x00", api.Rawtext, ">", `T"&amp;>&\x00"`}, {"</!>c", api.Rcdata, "!", `C"!";T"c"`}, {"a</</>c", api.Rawtext, "<", `T"a";C"</";T"c"`}, {"a</b>c>d", api.Rawtext, "b>c", `T"a";E<b>;T"c>d"`},
	} {
		l := Tok(x.s, x.state, x.name)
		if got := show(l); got != x.want {
			t.Errorf("Tok(%q, %d, %q): %s, want %s", x.s, x.state, x.name, got, x.want)
		}
		check(t, x.s, x.name)
		for _, name := range []string{"", "b", "script", "title", ">", "\x00", "</>"} {
			if got := show(Tok(x.s, api.Data, name)); got != show(Tok(x.s, api.Data, "")) {
				t.Errorf("Tok(%q, Data, %q): %s", x.s, name, got)
			}
			if got := show(Tok(x.s, api.Script, name)); got != show(Tok(x.s, api.Script, "")) {
				t.Errorf("Tok(%q, Script, %q): %s", x.s, name, got)
			}
			if got := show(Tok(x.s, api.Plaintext, name)); got != show(Tok(x.s, api.Plaintext, "")) {
				t.Errorf("Tok(%q, Plaintext, %q): %s", x.s, name, got)
			}
		}
		for _, state := range noStates {
			if l := Tok(x.s, state, x.name); len(l) != 0 {
				t.Errorf("Tok(%q, %d, %q): %s", x.s, state, x.name, show(l))
			}
		}
	}
}

// say is texts, one token each.
func say(of ...string) []api.Token {
	var l []api.Token
	for _, s := range of {
		l = append(l, api.Token{Kind: api.Text, Text: s})
	}
	return l
}

// others is tokens that are no texts, also those that say what a text may say, those that say nothing, and those of kinds that there aren't.
func others() []api.Token {
	return []api.Token{
		{Kind: api.Start, Name: "b"}, {Kind: api.Start, Name: "b", Attrs: []api.Attr{{Name: "x", Value: "1"}, {Name: "y"}}, Self: true}, {Kind: api.End, Name: "b"}, {Kind: api.Comment, Text: "a"}, {Kind: api.Comment}, {Kind: api.Doctype, Text: " html"}, {Kind: api.Doctype},
		{Kind: api.Start}, {Kind: api.End}, {Kind: api.Start, Text: "a"}, {Kind: api.Start, Attrs: []api.Attr{}}, {Kind: -1, Text: "a"}, {Kind: -1}, {Kind: 5, Text: "a"}, {Kind: 5}, {Kind: math.MinInt, Text: "a"}, {Kind: math.MaxInt}, {Kind: 1 << 32, Text: "a"}, {Kind: 1 << 32}, {Kind: 256, Text: "a"}, {Kind: 256},
	}
}

// deep is a copy of l that shares nothing with it.
func deep(l []api.Token) []api.Token {
	told := slices.Clone(l)
	for k := range told {
		told[k].Attrs = slices.Clone(told[k].Attrs)
	}
	return told
}

// checkJoin checks Join of l, and that l stays as it was, and so does what stands behind it in its memory.
func checkJoin(t *testing.T, l []api.Token, want []api.Token) {
	t.Helper()
	behind := say("behind", "", "it")
	room := append(deep(l), behind...)
	handed := room[:len(l)]
	before := deep(room)
	got := Join(handed)
	if !sameTokens(got, want) {
		t.Errorf("Join of %s: %s, want %s", show(l), show(got), show(want))
	}
	if !sameTokens(room, before) {
		t.Errorf("Join of %s left %s", show(l), show(room))
	}
	checkJoined(t, got)
	told := deep(got)
	// Who changes the one list changes nothing in the other.
	for k := range got {
		got[k] = api.Token{Kind: api.Comment, Text: "changed"}
	}
	got = append(got, say("more")...)
	if !sameTokens(room, before) {
		t.Errorf("what Join of %s told is shared", show(l))
	}
	again := Join(handed)
	for k := range room {
		room[k] = api.Token{Kind: api.Doctype, Text: "changed"}
	}
	if !sameTokens(again, told) {
		t.Errorf("Join of %s, once more: %s", show(before), show(again))
	}
}

func TestJoin(t *testing.T) {
	b, c := api.Token{Kind: api.Start, Name: "b"}, api.Token{Kind: api.Comment, Text: "c"}
	for _, x := range []struct{ l, want []api.Token }{
		// Nothing.
		{nil, nil}, {[]api.Token{}, nil}, {say(""), nil}, {say("", "", ""), nil},
		// Texts side by side.
		{say("a"), say("a")}, {say("a", "b"), say("ab")}, {say("b", "a", "a", "c"), say("baac")}, {say("\x00", "\xff", "<b>", "&am", "p;"), say("\x00\xff<b>&amp;")}, {say("\xe2", "\x82\xac"), say("\u20ac")}, {say(" ", "\n"), say(" \n")},
		// Texts that say nothing: between others, at the beginning, at the end.
		{say("a", "", "b"), say("ab")}, {say("", "a"), say("a")}, {say("a", ""), say("a")}, {say("", "", "a", "", "", "b", "", ""), say("ab")},
		// No text.
		{[]api.Token{b}, []api.Token{b}}, {[]api.Token{b, b, c}, []api.Token{b, b, c}}, {others(), others()},
	} {
		checkJoin(t, x.l, x.want)
		// What is none ahead of them, behind them, and on both sides.
		for _, other := range others() {
			one := []api.Token{other}
			checkJoin(t, slices.Concat(one, x.l), slices.Concat(one, x.want))
			checkJoin(t, slices.Concat(x.l, one), slices.Concat(x.want, one))
			checkJoin(t, slices.Concat(one, x.l, one), slices.Concat(one, x.want, one))
			checkJoin(t, slices.Concat(x.l, one, x.l, one), slices.Concat(x.want, one, x.want, one))
			checkJoin(t, slices.Concat(say("", "d"), one, x.l, one, one, say("e", "", "f")), slices.Concat(say("d"), one, x.want, one, one, say("ef")))
		}
	}
}

func TestJoinOfAllLists(t *testing.T) {
	// Each of a few tokens, in all orders; one is a text that has what no text has.
	of := append(say("", "a", "b<"), api.Token{Kind: api.End, Name: "b"}, api.Token{Kind: api.Comment}, api.Token{Kind: api.Start, Text: "a", Attrs: []api.Attr{{Name: "x"}}})
	var digits []string
	for k := range of {
		digits = append(digits, string([]byte{byte(k)}))
	}
	for n := range 7 {
		eachText(digits, n, func(these string) {
			var l []api.Token
			says := ""
			for k := range len(these) {
				one := of[these[k]]
				l = append(l, one)
				if one.Kind != api.Text {
					says += "|"
				}
				says += one.Text
			}
			got := Join(l)
			told := ""
			for _, one := range got {
				if one.Kind != api.Text {
					told += "|"
				}
				told += one.Text
			}
			if told != says || !sameTokens(got, wantJoin(l)) {
				t.Errorf("Join of %s: %s", show(l), show(got))
			}
			checkJoined(t, got)
			if n < 5 {
				checkJoin(t, l, wantJoin(l))
			}
		})
	}
}

func TestJoinOfOddTexts(t *testing.T) {
	// A text that stands alone stays as it is, also what of it means nothing.
	odd := api.Token{Kind: api.Text, Name: "b", Text: "a", Attrs: []api.Attr{{Name: "x"}}, Self: true}
	for _, l := range [][]api.Token{{odd}, {odd, {Kind: api.Start}, odd}, {{Kind: api.Comment}, odd}} {
		checkJoin(t, l, l)
	}
	checkJoin(t, slices.Concat(say(""), []api.Token{odd}, say("")), []api.Token{odd})
	silent := odd
	silent.Text = ""
	checkJoin(t, []api.Token{silent}, nil)
	checkJoin(t, []api.Token{silent, silent, {Kind: api.End}}, []api.Token{{Kind: api.End}})
	if l := Join([]api.Token{odd, odd, silent}); len(l) != 1 || l[0].Kind != api.Text || l[0].Text != "aa" {
		t.Error(show(l))
	}
}

func TestTokOfParts(t *testing.T) {
	// Each of these tells the same, whatever stands beside it.
	parts := []struct{ s, says string }{{"a", `T"a"`}, {"&amp;", `T"&"`}, {"< ", `T"< "`}, {"</>", ""}, {"<b>", "S<b>"}, {"</b>", "E<b>"}, {"<I x='</i>'/>", `S<i> x="</i>"/`}, {"<!--<b>-->", `C"<b>"`}, {"<?c>", `C"?c"`}, {"<!doctype d>", `D" d"`}, {"\x00", `T"\x00"`}, {">", `T">"`}}
	var digits []string
	for k := range parts {
		digits = append(digits, string([]byte{byte(k)}))
	}
	for n := range 5 {
		eachText(digits, n, func(of string) {
			s := ""
			var says []string
			for k := range len(of) {
				part := parts[of[k]]
				s += part.s
				last := len(says) - 1
				switch {
				case part.says == "":
				case part.says[0] == 'T' && last >= 0 && says[last][0] == 'T':
					says[last] = strings.TrimSuffix(says[last], `"`) + part.says[2:]
				default:
					says = append(says, part.says)
				}
			}
			want := strings.Join(says, ";")
			if got := show(Tok(s, api.Data, "")); got != short(want) {
				t.Errorf("Tok(%q): %s, want %s", s, got, want)
			}
			// What isn't ended behind it tells nothing.
			if got := show(Tok(s+"<b x='", api.Data, "")); got != short(want) {
				t.Errorf("Tok(%q): %s, want %s", s+"<b x='", got, want)
			}
			behind := "E<z>"
			if want != "" {
				behind += ";" + want
			}
			for _, state := range []int{api.Rcdata, api.Rawtext} {
				if got := show(Tok("</z>"+s, state, "z")); got != short(behind) {
					t.Errorf("Tok(%q, %d, z): %s, want %s", "</z>"+s, state, got, behind)
				}
			}
		})
	}
}

func TestAllShortTexts(t *testing.T) {
	bytes := eachByte()
	for _, ahead := range []string{"", "<", "</", "<!", "<b", "<b ", "<!--", "<!doctype", "a</b", "&lt"} {
		for n := range 3 {
			eachText(bytes, n, func(s string) {
				for _, s := range []string{ahead + s, ahead + s + ">c"} {
					got := gotNext(s, 0)
					if want := wantNext(s, 0); !samePiece(got, want) {
						t.Errorf("Next(%q, 0): %s, %d, %t, want %s, %d, %t", s, show([]api.Token{got.t}), got.next, got.ok, show([]api.Token{want.t}), want.next, want.ok)
					}
				}
			})
		}
	}
	parts := []string{"<", "/", ">", "!", "?", "b", "B", " ", "\x00", "-", "&lt", ";", "</b", "script", "'", "="}
	for n := range 4 {
		eachText(parts, n, func(s string) { check(t, s) })
	}
	eachText(parts, 4, func(s string) {
		checkNext(t, s, 0)
		for state := range 5 {
			checkTok(t, s, state, "b")
		}
	})
	for n := range 8 {
		eachText([]string{"<", "/", ">", "b", "!", " "}, n, func(s string) {
			checkTok(t, s, api.Data, "")
			checkTok(t, s, api.Rawtext, "b")
		})
	}
	for n := range 5 {
		eachText([]string{"<!--", "-->", "<script>", "</script>", "</script ", "<", "a", "\x00", "&lt;", "</>"}, n, func(s string) {
			for _, state := range texts {
				checkTok(t, s, state, "script")
				checkRest(t, s, 1, state, "script")
			}
		})
	}
}

func TestLongTexts(t *testing.T) {
	const n = 1 << 16
	// Texts that are one, however many they were.
	if l := Tok(strings.Repeat("a</>", n), api.Data, ""); len(l) != 1 || l[0].Text != strings.Repeat("a", n) {
		t.Errorf("%d tokens", len(l))
	}
	for _, x := range []struct {
		part string
		each int // how many tokens there are of each
	}{{"<b>", 1}, {"</b>", 1}, {"</>", 0}, {"a<b>", 2}, {"<b x='>'/></b >", 2}, {"<!---->", 1}, {"<!>", 1}, {"<!doctype>", 1}, {"&lt;<?>", 2}, {"<b></>", 1}} {
		s := strings.Repeat(x.part, n)
		if l := Tok(s, api.Data, ""); len(l) != n*x.each {
			t.Errorf("Tok of %q, many times: %d tokens", x.part, len(l))
		}
		l, next := Rest(s+"</z>", 0, api.Rawtext, "z")
		if len(l) != 2 || l[0].Text != s || next != len(s)+4 {
			t.Errorf("Rest of %q, many times: %d tokens, %d", x.part, len(l), next)
		}
	}
	for _, part := range []string{"a", "<", "< ", "&lt;", "\x00", ">", "/", "&", "\xff"} {
		s := strings.Repeat(part, n)
		if one, next, ok := Next(s, 0); one.Text != ref.Decode(s, false) || next != len(s) || !ok {
			t.Errorf("Next of %q, many times: %q, %d, %t", part, short(one.Text), next, ok)
		}
		for _, state := range texts {
			want := clean(s)
			if state == api.Rcdata {
				want = clean(ref.Decode(s, false))
			}
			if l, next := Rest(s, 0, state, "b"); len(l) != 1 || l[0].Text != want || next != len(s) {
				t.Errorf("Rest of %q, many times, in %d: %d tokens, %d", part, state, len(l), next)
			}
		}
	}
	// What isn't ended is read once.
	for _, part := range []string{"<b ", "<b", "</b ", "<b x=' "} {
		if l := Tok(strings.Repeat(part, n), api.Data, ""); len(l) != 0 {
			t.Errorf("Tok of %q, many times: %d tokens", part, len(l))
		}
	}
	for _, part := range []string{"<!--", "<!", "<?", "<!doctype", "</ "} {
		if l := Tok(strings.Repeat(part, n), api.Data, ""); len(l) != 1 {
			t.Errorf("Tok of %q, many times: %d tokens", part, len(l))
		}
	}
	l := Join(slices.Concat(slices.Repeat(say("a", "", "b"), n), []api.Token{{Kind: api.End}}, slices.Repeat(say(""), n)))
	if len(l) != 2 || l[0].Text != strings.Repeat("ab", n) {
		t.Errorf("%d tokens", len(l))
	}
	attributes := "<b" + strings.Repeat(" x", n) + " y>"
	if l := Tok(attributes, api.Data, ""); len(l) != 1 || len(l[0].Attrs) != 2 {
		t.Errorf("%d tokens", len(l))
	}
}

func TestAnswersAreTheirOwn(t *testing.T) {
	const s = "<b x=1 y=2>a</b>c</>d<i z=3>"
	want := Tok(s, api.Data, "")
	for k := range 3 {
		l := Tok(s, api.Data, "")
		one, _, _ := Next(s, 0)
		rest, _ := Rest("a</b>", 0, api.Rawtext, "b")
		if !sameTokens(l, want) || !sameToken(one, want[0]) || show(rest) != `T"a";E<b>` {
			t.Fatal(k, show(l), show([]api.Token{one}), show(rest))
		}
		one.Attrs[0] = api.Attr{Name: "changed"}
		l[0].Attrs[1].Value = "changed"
		for k := range l {
			l[k] = api.Token{Name: "changed"}
		}
		for k := range rest {
			rest[k].Text = "changed"
		}
	}
	// No two lists of one answer share any memory.
	l := Tok("<b x=1><b x=1>", api.Data, "")
	l[0].Attrs[0].Value = "2"
	_ = append(l[0].Attrs, api.Attr{Name: "y"})
	if l[1].Attrs[0].Value != "1" || len(l[1].Attrs) != 1 {
		t.Error(show(l))
	}
}

func TestTheSameEachTime(t *testing.T) {
	for range 300 {
		for _, s := range []string{"", "a<b>c</>d", "<!DOCTYPE html><p>&lt;</p><!--x-->", "a<b x='>c", "a</b>c</b>", "<!--<script></script></script><b>"} {
			for at := -1; at <= len(s)+1; at++ {
				checkNext(t, s, at)
			}
			for state := range 7 {
				checkTok(t, s, state, "b")
			}
		}
	}
}

func FuzzTok(f *testing.F) {
	for _, s := range []string{"", "a<b>c</>d", "<!DOCTYPE html><p>&lt;</p><!--x-->", "a<b x='>c", "a<", "a</", "</b x", "a</B >c</1>", "<!--<script></script></script><b>", "a\x00&lt</>;<?x><!>", "<a x='<b>' y/>", "\xff<\xe1>"} {
		f.Add(s, 0, "b")
		f.Add(s, 1, "script")
		f.Add(s, -1, "1")
	}
	f.Fuzz(func(t *testing.T, s string, at int, name string) {
		if len(s) > 1<<12 {
			return
		}
		checkNext(t, s, at)
		for state := range 7 {
			checkRest(t, s, at, state, name)
			checkTok(t, s, state, name)
		}
		check(t, s[:min(len(s), 40)], name)
	})
}
