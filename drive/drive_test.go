package drive

import (
	"slices"
	"strconv"
	"strings"
	"testing"

	"flail/api"
	"flail/ref"
	"flail/tok"
)

// bad is the sign 65533 by its bytes, so that the tests hang on no other package's word for it.
const bad = "\xef\xbf\xbd"

// letters is each letter, put down one by one, so that the tests share no rule with the program.
const letters = "abcdefghijklmnopqrstuvwxyzABCDEFGHIJKLMNOPQRSTUVWXYZ"

// spaces is the four Spaces, and closers what ends a tag's name.
const (
	spaces  = "\t\n\f "
	closers = spaces + "/>"
)

// kept is the ten names behind whose start tags all is text, and in which state; they stand in a list here, told one by one.
var kept = []struct {
	name  string
	state int
}{
	{"title", api.Rcdata}, {"textarea", api.Rcdata},
	{"style", api.Rawtext}, {"xmp", api.Rawtext}, {"iframe", api.Rawtext}, {"noembed", api.Rawtext}, {"noframes", api.Rawtext}, {"noscript", api.Rawtext},
	{"script", api.Script}, {"plaintext", api.Plaintext},
}

// stateOf is what the chapter asks of State.
func stateOf(name string) int {
	for _, x := range kept {
		if x.name == name {
			return x.state
		}
	}
	return api.Data
}

// keeps tells whether all is text behind t.
func keeps(t api.Token) bool { return t.Kind == api.Start && stateOf(t.Name) != api.Data }

// short is s, or so much of it as a failing test may tell.
func short(s string) string {
	if len(s) > 300 {
		return s[:300] + ".."
	}
	return s
}

// show tells tokens: their kinds by a letter each, and what they say.
func show(l []api.Token) string {
	var told []string
	for _, t := range l {
		one := "?" + strconv.Itoa(t.Kind)
		if t.Kind >= 0 && t.Kind < 5 {
			one = "TSECD"[t.Kind : t.Kind+1]
		}
		if t.Name != "" {
			one += "<" + t.Name + ">"
		}
		if t.Text != "" {
			one += strconv.Quote(t.Text)
		}
		for _, a := range t.Attrs {
			one += " " + a.Name + "=" + strconv.Quote(a.Value)
		}
		if t.Self {
			one += "/"
		}
		told = append(told, one)
	}
	return strings.Join(told, ";")
}

// in puts what is told of several pieces side by side; what tells nothing is left out.
func in(told ...string) string {
	return strings.Join(slices.DeleteFunc(told, func(one string) bool { return one == "" }), ";")
}

// text is how show tells a text; one that says nothing isn't told.
func text(says string) string {
	if says == "" {
		return ""
	}
	return "T" + strconv.Quote(says)
}

// sameToken tells whether a and b are alike; an empty list is one like none.
func sameToken(a, b api.Token) bool {
	return a.Kind == b.Kind && a.Name == b.Name && a.Text == b.Text && a.Self == b.Self && slices.Equal(a.Attrs, b.Attrs)
}

// sameTokens tells whether lists of them are alike.
func sameTokens(a, b []api.Token) bool { return slices.EqualFunc(a, b, sameToken) }

// eachText hands all texts of n of those parts to see.
func eachText(of []string, n int, see func(string)) {
	if n == 0 {
		see("")
		return
	}
	eachText(of, n-1, func(ahead string) {
		for _, part := range of {
			see(ahead + part)
		}
	})
}

// eachByte is each byte, as a text of its own.
func eachByte() []string {
	var told []string
	for c := range 256 {
		told = append(told, string([]byte{byte(c)}))
	}
	return told
}

// eachCase is a word in each mixture of large letters and small ones.
func eachCase(word string) []string {
	told := []string{""}
	for _, c := range strings.Split(word, "") {
		var longer []string
		for _, ahead := range told {
			longer = append(longer, ahead+strings.ToLower(c), ahead+strings.ToUpper(c))
		}
		told = longer
	}
	return told
}

// low is s with small letters in the places of the large ones, byte by byte.
func low(s string) string {
	bytes := []byte(s)
	for at, c := range bytes {
		if k := strings.IndexByte(letters[26:], c); k >= 0 {
			bytes[at] = letters[k]
		}
	}
	return string(bytes)
}

// clean is s with api.Bad in the place of each byte 0.
func clean(s string) string { return strings.ReplaceAll(s, "\x00", bad) }

// says is what bytes without markup say in a state.
func says(s string, state int) string {
	if state == api.Data || state == api.Rcdata {
		s = ref.Decode(s, false)
	}
	if state != api.Data {
		s = clean(s)
	}
	return s
}

// among tells whether c is one of these bytes.
func among(c byte, these string) bool { return strings.IndexByte(these, c) >= 0 }

// machine reads a text byte by byte, in whatever state, and never goes back: what a byte means hangs on the step that it is read in, and so does what the end of the text means.
type machine struct {
	step        func(m *machine, c byte)
	end         func(m *machine)
	state       int    // how text is read
	until       string // the tag within which all is text
	within      int    // what a program is within: 1 a comment, 2 another program in one
	strokes     int    // how many strokes stand there, one behind the other
	mark        string // what may be an end, or a program's beginning
	held        string // what isn't told yet of a text, a comment or a doctype
	text        string // what the texts say that stand side by side
	tag         api.Token
	name, value string
	quote       byte
	told        []api.Token
}

// goTo makes a step the next one.
func (m *machine) goTo(step func(*machine, byte), end func(*machine)) { m.step, m.end = step, end }

// tellText ends a text, as markup begins.
func (m *machine) tellText() { m.text, m.held = m.text+says(m.held, m.state), "" }

// tellAll tells the text that is ended: no more of it comes.
func (m *machine) tellAll() {
	if m.text != "" {
		m.told = append(m.told, api.Token{Kind: api.Text, Text: m.text})
	}
	m.text = ""
}

// tell tells what is no text; behind it stands data.
func (m *machine) tell(t api.Token) {
	m.tellAll()
	m.told = append(m.told, t)
	m.toData()
}

func (m *machine) toData() {
	m.held, m.tag = "", api.Token{}
	m.state, m.until = api.Data, ""
	m.goTo(inData, endData)
}

func inData(m *machine, c byte) {
	if c == '<' {
		m.goTo(afterBracket, func(m *machine) { m.held += "<"; endData(m) })
		return
	}
	m.held += string([]byte{c})
}

func endData(m *machine) { m.tellText(); m.tellAll() }

func afterBracket(m *machine, c byte) {
	switch {
	case among(c, letters):
		m.tellText()
		m.beginTag(api.Start, c)
	case c == '/':
		m.goTo(afterStroke, func(m *machine) { m.held += "</"; endData(m) })
	case c == '!':
		m.tellText()
		m.goTo(afterBang, endBogus)
	case c == '?':
		m.tellText()
		m.goTo(inBogus, endBogus)
		inBogus(m, c)
	default:
		m.held += "<"
		m.goTo(inData, endData)
		inData(m, c)
	}
}

func afterStroke(m *machine, c byte) {
	m.tellText()
	switch {
	case among(c, letters):
		m.beginTag(api.End, c)
	case c == '>':
		// No piece: the texts on both its sides are one.
		m.toData()
	default:
		m.goTo(inBogus, endBogus)
		inBogus(m, c)
	}
}

func afterBang(m *machine, c byte) {
	m.held += string([]byte{c})
	switch {
	case m.held == "--":
		m.held = ""
		m.goTo(inComment, endComment)
	case low(m.held) == "doctype":
		m.held = ""
		m.goTo(inDoctype, endDoctype)
	case m.held == "-" || strings.HasPrefix("doctype", low(m.held)):
	default:
		m.held = m.held[:len(m.held)-1]
		m.goTo(inBogus, endBogus)
		inBogus(m, c)
	}
}

func inBogus(m *machine, c byte) {
	if c == '>' {
		endBogus(m)
		return
	}
	m.held += string([]byte{c})
}

func endBogus(m *machine) { m.tell(api.Token{Kind: api.Comment, Text: clean(m.held)}) }

func inDoctype(m *machine, c byte) {
	if c == '>' {
		endDoctype(m)
		return
	}
	m.held += string([]byte{c})
}

func endDoctype(m *machine) { m.tell(api.Token{Kind: api.Doctype, Text: clean(m.held)}) }

func inComment(m *machine, c byte) {
	m.held += string([]byte{c})
	for _, end := range []string{"-->", "--!>"} {
		if held, cut := strings.CutSuffix(m.held, end); cut {
			m.held = held
			endBogus(m)
			return
		}
	}
	if m.held == ">" || m.held == "->" {
		m.held = ""
		endBogus(m)
	}
}

func endComment(m *machine) {
	for _, end := range []string{"--!", "--", "-"} {
		if held, cut := strings.CutSuffix(m.held, end); cut {
			m.held = held
			break
		}
	}
	endBogus(m)
}

func (m *machine) beginTag(kind int, c byte) {
	m.tag = api.Token{Kind: kind}
	m.goTo(inTagName, endTag)
	inTagName(m, c)
}

// endTag is what the end of the text means within a tag: nothing of it is told.
func endTag(m *machine) { m.tellAll() }

func inTagName(m *machine, c byte) {
	if among(c, closers) {
		m.tag.Name = clean(low(m.tag.Name))
		m.goTo(betweenAttrs, endTag)
		betweenAttrs(m, c)
		return
	}
	m.tag.Name += string([]byte{c})
}

func betweenAttrs(m *machine, c byte) {
	switch {
	case among(c, spaces):
	case c == '/':
		m.goTo(afterTagStroke, endTag)
	case c == '>':
		m.tellTag()
	default:
		m.name = string([]byte{c})
		m.goTo(inAttrName, endTag)
	}
}

func afterTagStroke(m *machine, c byte) {
	m.tag.Self = c == '>' && m.tag.Kind == api.Start
	m.goTo(betweenAttrs, endTag)
	betweenAttrs(m, c)
}

func inAttrName(m *machine, c byte) {
	if among(c, closers+"=") {
		m.goTo(afterAttrName, endTag)
		afterAttrName(m, c)
		return
	}
	m.name += string([]byte{c})
}

func afterAttrName(m *machine, c byte) {
	switch {
	case among(c, spaces):
	case c == '=':
		m.goTo(beforeValue, endTag)
	default:
		m.keep()
		betweenAttrs(m, c)
	}
}

func beforeValue(m *machine, c byte) {
	switch {
	case among(c, spaces):
	case among(c, `"'`):
		m.quote = c
		m.goTo(inQuotes, endTag)
	default:
		m.goTo(inValue, endTag)
		inValue(m, c)
	}
}

func inQuotes(m *machine, c byte) {
	if c == m.quote {
		m.keep()
		return
	}
	m.value += string([]byte{c})
}

func inValue(m *machine, c byte) {
	if among(c, spaces+">") {
		m.keep()
		betweenAttrs(m, c)
		return
	}
	m.value += string([]byte{c})
}

// keep ends an attribute.
func (m *machine) keep() {
	a := api.Attr{Name: clean(low(m.name)), Value: clean(ref.Decode(m.value, true))}
	if m.tag.Kind == api.Start && !slices.ContainsFunc(m.tag.Attrs, func(b api.Attr) bool { return a.Name == b.Name }) {
		m.tag.Attrs = append(m.tag.Attrs, a)
	}
	m.name, m.value = "", ""
	m.goTo(betweenAttrs, endTag)
}

func (m *machine) tellTag() {
	t := m.tag
	m.tell(t)
	if keeps(t) {
		m.state, m.until = stateOf(t.Name), t.Name
		m.within, m.strokes = 0, 0
		m.goTo(inText, endData)
	}
}

// inText reads a byte where all is text.
func inText(m *machine, c byte) {
	switch {
	case c == '<' && m.state != api.Plaintext:
		m.mark, m.strokes = "<", 0
		m.goTo(inMark, endMark)
		return
	case c == '-':
		m.strokes++
	case c == '>' && m.strokes > 1:
		m.within, m.strokes = 0, 0
	default:
		m.strokes = 0
	}
	m.held += string([]byte{c})
}

// inMark reads a byte behind a bracket, where all is text.
func inMark(m *machine, c byte) {
	longer := m.mark + string([]byte{c})
	switch {
	case m.state == api.Script && m.within == 0 && longer == "<!--":
		m.within, m.strokes = 1, 2
		m.backToText(longer)
	case m.state == api.Script && m.within == 0 && (longer == "<!" || longer == "<!-"), longer == "</", among(c, letters) && m.mark[len(m.mark)-1] != '!' && m.mark[len(m.mark)-1] != '-':
		m.mark = longer
	case among(c, closers) && m.within < 2 && low(m.mark) == "</"+m.until:
		m.tellText()
		m.tag = api.Token{Kind: api.End, Name: m.until}
		m.goTo(betweenAttrs, endTag)
		betweenAttrs(m, c)
	case among(c, closers) && m.within == 1 && low(m.mark) == "<script":
		m.within = 2
		m.backToText(longer)
	case among(c, closers) && m.within == 2 && low(m.mark) == "</script":
		m.within = 1
		m.backToText(longer)
	default:
		m.backToText(m.mark)
		inText(m, c)
	}
}

func (m *machine) backToText(held string) {
	m.held += held
	m.goTo(inText, endData)
}

func endMark(m *machine) { m.held += m.mark; endData(m) }

// wantDrive is what the chapters ask of Drive.
func wantDrive(s string) []api.Token {
	var m machine
	m.toData()
	for at := range len(s) {
		m.step(&m, s[at])
	}
	m.end(&m)
	return m.told
}

// layersDrive is what the layer below makes of s: a piece, the text behind it, and what is left, as if that were all.
func layersDrive(s string) []api.Token {
	if s == "" {
		return nil
	}
	var l []api.Token
	t, next, ok := tok.Next(s, 0)
	left := s[next:]
	if ok {
		l = append(l, t)
	}
	if ok && keeps(t) {
		text, end := tok.Rest(left, 0, stateOf(t.Name), t.Name)
		l, left = append(l, text...), left[end:]
	}
	return tok.Join(append(l, layersDrive(left)...))
}

// checkBehind checks what follows (P16.3), and that no two texts stand side by side in l, and none says nothing.
func checkBehind(t *testing.T, l []api.Token) {
	t.Helper()
	for k, one := range l {
		if one.Kind == api.Text && (one.Text == "" || k > 0 && l[k-1].Kind == api.Text) {
			t.Errorf("the token %d of %s", k, short(show(l)))
		}
		if !keeps(one) {
			continue
		}
		behind := l[k+1:]
		if len(behind) > 0 && behind[0].Kind == api.Text {
			behind = behind[1:]
		}
		if len(behind) > 0 && (behind[0].Kind != api.End || behind[0].Name != one.Name || one.Name == "plaintext") {
			t.Errorf("behind the token %d of %s", k, short(show(l)))
		}
	}
}

// checkData checks that what Drive tells is what Tok tells in data, up to the first start tag behind which all is text.
func checkData(t *testing.T, s string, l []api.Token) {
	t.Helper()
	data := tok.Tok(s, api.Data, "")
	n := slices.IndexFunc(data, keeps) + 1
	if n == 0 {
		n = max(len(data), len(l))
	}
	if n > len(l) || n > len(data) || !sameTokens(l[:n], data[:n]) {
		t.Errorf("Drive(%q): %s, but in data: %s", short(s), short(show(l)), short(show(data)))
	}
}

// check checks Drive of s.
func check(t *testing.T, s string) {
	t.Helper()
	l := Drive(s)
	if want := wantDrive(s); !sameTokens(l, want) {
		t.Errorf("Drive(%q): %s, want %s", short(s), short(show(l)), short(show(want)))
	}
	if want := layersDrive(s); !sameTokens(l, want) {
		t.Errorf("Drive(%q): %s, by the layer below %s", short(s), short(show(l)), short(show(want)))
	}
	checkBehind(t, l)
	checkData(t, s, l)
}

// checkShow checks that Drive of s is told as want.
func checkShow(t *testing.T, s, want string) {
	t.Helper()
	if got := show(Drive(s)); got != want {
		t.Errorf("Drive(%q): %s, want %s", short(s), short(got), short(want))
	}
	check(t, s)
}

func TestStateOfTheTen(t *testing.T) {
	for name, want := range map[string]int{
		"title": api.Rcdata, "textarea": api.Rcdata, "style": api.Rawtext, "xmp": api.Rawtext, "iframe": api.Rawtext, "noembed": api.Rawtext, "noframes": api.Rawtext, "noscript": api.Rawtext, "script": api.Script, "plaintext": api.Plaintext,
	} {
		if got := State(name); got != want || got != stateOf(name) {
			t.Errorf("State(%q): %d, want %d", name, got, want)
		}
	}
	// By their numbers, too.
	for n, names := range []string{"", "title textarea", "style xmp iframe noembed noframes noscript", "script", "plaintext"} {
		for _, name := range strings.Fields(names) {
			if got := State(name); got != n {
				t.Errorf("State(%q): %d, want %d", name, got, n)
			}
		}
	}
}

// checkNoState checks that State of a name is api.Data.
func checkNoState(t *testing.T, name string) {
	t.Helper()
	if got := State(name); got != api.Data {
		t.Errorf("State(%q): %d", short(name), got)
	}
}

func TestStateOfNamesNearToTheTen(t *testing.T) {
	// Without its first bytes noscript is script.
	near := func(name string) {
		t.Helper()
		if stateOf(name) == api.Data {
			checkNoState(t, name)
		}
	}
	for _, x := range kept {
		for _, mixed := range eachCase(x.name) {
			near(mixed)
		}
		for at := range len(x.name) + 1 {
			if at < len(x.name) {
				near(x.name[:at])
				near(x.name[at+1:])
				near(x.name[:at] + x.name[at+1:])
			}
			if at > 0 {
				near(x.name[at:])
			}
			for _, c := range eachByte() {
				near(x.name[:at] + c + x.name[at:])
				if at < len(x.name) {
					near(x.name[:at] + c + x.name[at+1:])
				}
			}
		}
		for _, y := range kept {
			for _, between := range []string{"", " ", ",", "|", "\n", "\x00", ";", "/", ">"} {
				near(x.name + between + y.name)
			}
		}
		for _, around := range []string{"<", ">", "</", "/>", " ", "\t", "\n", "\x00", bad, "\xff", "\ufeff", "s", "x-"} {
			near(around + x.name)
			near(x.name + around)
			near(around + x.name + around)
		}
		near(strings.Repeat(x.name, 1<<14))
		near(x.name + strings.Repeat("\x00", 1<<16))
		near(x.name + strings.Repeat(" ", 1<<16))
	}
}

func TestStateOfOtherNames(t *testing.T) {
	for _, name := range strings.Fields("a abbr acronym address applet area article aside audio b base basefont bdi bdo bgsound big blink blockquote body br button canvas caption center cite code col colgroup command content data datalist dd del details dfn dialog dir div dl dt element em embed fieldset figcaption figure font footer form frame frameset h1 h2 h3 h4 h5 h6 head header hgroup hr html i image img input ins isindex kbd keygen label legend li link listing main map mark marquee math menu menuitem meta meter multicol nav nextid nobr object ol optgroup option output p param picture portal pre progress q rb rbc rp rt rtc ruby s samp search section select shadow slot small source spacer span strike strong sub summary sup svg table tbody td template tfoot th thead time tr track tt u ul var video wbr x data rcdata rawtext plain text area no noxmp frames frame script1 cdata") {
		checkNoState(t, name)
	}
	for n := range 3 {
		eachText(eachByte(), n, func(s string) { checkNoState(t, s) })
	}
	for _, name := range []string{"0", "1", "2", "-1", "title textarea", "t\u0131tle", "\u017fcript", "\u017ftyle", "\uff54\uff49\uff54\uff4c\uff45", "\xff\xfe", "ti\x00tle", "\x00", "\x00title", "title\x00"} {
		checkNoState(t, name)
	}
	for _, part := range []string{"a", "\x00", "title", "\xff", " "} {
		checkNoState(t, strings.Repeat(part, 1<<18))
	}
}

func TestDrive(t *testing.T) {
	for _, x := range []struct{ s, want string }{
		// Nothing, and text without markup.
		{"", ""}, {"a", `T"a"`}, {" ", `T" "`}, {"a &amp; b", `T"a & b"`}, {"a < b > c", `T"a < b > c"`}, {"\x00", `T"\x00"`}, {"a\r\n", `T"a\r\n"`}, {"\xff", `T"\xff"`}, {"title", `T"title"`}, {"&lt;title>&lt;b>", `T"<title><b>"`}, {"< title><b>", `T"< title>";S<b>`}, {"<", `T"<"`}, {"</", `T"</"`},
		// The chapter's example, and those of the whole that Drive tells.
		{"<title>a<b></title><b>", `S<title>;T"a<b>";E<title>;S<b>`}, {"<title>a<b></title>", `S<title>;T"a<b>";E<title>`}, {"<p>a<p>b", `S<p>;T"a";S<p>;T"b"`}, {"a &lt;b>", `T"a <b>"`}, {"<script>a<!--<script></script></script>b", `S<script>;T"a<!--<script></script>";E<script>;T"b"`}, {"<!-->a-->", `C;T"a-->"`}, {"<a x='<b>' y/>", `S<a> x="<b>" y=""/`},
		// Each name, and its end.
		{"<title>&lt;b></title>&lt;", `S<title>;T"<b>";E<title>;T"<"`}, {"<textarea>&lt;b></textarea>&lt;", `S<textarea>;T"<b>";E<textarea>;T"<"`}, {"<style>&lt;<b></style>&lt;", `S<style>;T"&lt;<b>";E<style>;T"<"`}, {"<xmp>&lt;<b></xmp>&lt;", `S<xmp>;T"&lt;<b>";E<xmp>;T"<"`}, {"<iframe>&lt;<b></iframe>&lt;", `S<iframe>;T"&lt;<b>";E<iframe>;T"<"`}, {"<noembed>&lt;<b></noembed>&lt;", `S<noembed>;T"&lt;<b>";E<noembed>;T"<"`}, {"<noframes>&lt;<b></noframes>&lt;", `S<noframes>;T"&lt;<b>";E<noframes>;T"<"`}, {"<noscript>&lt;<b></noscript>&lt;", `S<noscript>;T"&lt;<b>";E<noscript>;T"<"`}, {"<script>&lt;<b></script>&lt;", `S<script>;T"&lt;<b>";E<script>;T"<"`}, {"<plaintext>&lt;<b></plaintext>&lt;", `S<plaintext>;T"&lt;<b></plaintext>&lt;"`},
		// The byte 0: in data it stays.
		{"\x00<title>\x00</title>\x00", `T"\x00";S<title>;T"` + bad + `";E<title>;T"\x00"`}, {"\x00<xmp>\x00</xmp>\x00", `T"\x00";S<xmp>;T"` + bad + `";E<xmp>;T"\x00"`}, {"\x00<script>\x00</script>\x00", `T"\x00";S<script>;T"` + bad + `";E<script>;T"\x00"`}, {"\x00<plaintext>\x00", `T"\x00";S<plaintext>;T"` + bad + `"`}, {"<title\x00><b></title\x00>", "S<title" + bad + ">;S<b>;E<title" + bad + ">"}, {"<title>a</title\x00>", `S<title>;T"a</title` + bad + `>"`}, {"<style \x00=\x00>\x00", `S<style> ` + bad + `="` + bad + `";T"` + bad + `"`},
		// Other tags: data.
		{"<p><b>a</b>", `S<p>;S<b>;T"a";E<b>`}, {"<pre><b></pre>", "S<pre>;S<b>;E<pre>"}, {"<listing><b></listing>", "S<listing>;S<b>;E<listing>"}, {"<titles><b></titles>", "S<titles>;S<b>;E<titles>"}, {"<titl><b></titl>", "S<titl>;S<b>;E<titl>"}, {"<svg:title><b>", "S<svg:title>;S<b>"}, {"<svg><title><b></title></svg>", `S<svg>;S<title>;T"<b>";E<title>;E<svg>`},
		// The attributes of a start tag play no part, nor whether it closes itself.
		{"<STYLE x>&lt;</style>&lt;", `S<style> x="";T"&lt;";E<style>;T"<"`}, {"<textarea/><b></textarea>", `S<textarea>/;T"<b>";E<textarea>`}, {"<title/><b>", `S<title>/;T"<b>"`}, {"<plaintext/><b>", `S<plaintext>/;T"<b>"`}, {"<title x='</title>'><b></title>", `S<title> x="</title>";T"<b>";E<title>`}, {"<b title><i></b>", `S<b> title="";S<i>;E<b>`}, {"<b title='<title>'><i>", `S<b> title="<title>";S<i>`}, {"<title <b>c</b>", `S<title> <b="";T"c</b>"`}, {"<title<b>c</b>", `S<title<b>;T"c";E<b>`},
		// An end tag that is another's, or goes on, is text.
		{"<title>a</b></title>", `S<title>;T"a</b>";E<title>`}, {"<title>a</titles></title>", `S<title>;T"a</titles>";E<title>`}, {"<title>a</titl></title>", `S<title>;T"a</titl>";E<title>`}, {"<title>a</></title>", `S<title>;T"a</>";E<title>`}, {"<title>a</ title></title>", `S<title>;T"a</ title>";E<title>`}, {"<title>a&lt;/title></title>", `S<title>;T"a</title>";E<title>`}, {"<style>a&lt;/style></style>", `S<style>;T"a&lt;/style>";E<style>`},
		// It ends at its first end tag: what stands behind that is data.
		{"<title></title>", "S<title>;E<title>"}, {"<title>a</title>b</title>c", `S<title>;T"a";E<title>;T"b";E<title>;T"c"`}, {"<title>a</title></title><b>", `S<title>;T"a";E<title>;E<title>;S<b>`}, {"<title>a<!--</title>-->", `S<title>;T"a<!--";E<title>;T"-->"`}, {"<title><a x='</title>'>", `S<title>;T"<a x='";E<title>;T"'>"`}, {"<title></title/>a", `S<title>;E<title>;T"a"`}, {"<title></title x='>'>a", `S<title>;E<title>;T"a"`}, {"<title></title <title>a<b>", `S<title>;E<title>;T"a";S<b>`},
		// No end, and ends that aren't ended.
		{"<title>", "S<title>"}, {"<title>a<b>", `S<title>;T"a<b>"`}, {"<xmp><b", `S<xmp>;T"<b"`}, {"<xmp>a</xmp", `S<xmp>;T"a</xmp"`}, {"<xmp>a</xmp ", `S<xmp>;T"a"`}, {"<xmp></xmp x='><b>", "S<xmp>"}, {"<xmp>&lt;</", `S<xmp>;T"&lt;</"`}, {"<xmp><", `S<xmp>;T"<"`},
		// A start tag that isn't: nothing of it is told, and all is read.
		{"a<title", `T"a"`}, {"a<title x='><b>c</title>", `T"a"`}, {"a<script/", `T"a"`}, {"<plaintext ", ""}, {"a</>b<title ", `T"ab"`},
		// What is no start tag.
		{"</title><b>", "E<title>;S<b>"}, {"<!--<title>--><b>", `C"<title>";S<b>`}, {"<!title><b>", `C"title";S<b>`}, {"<?title><b>", `C"?title";S<b>`}, {"</ title><b>", `C" title";S<b>`}, {"<!doctype title><b>", `D" title";S<b>`},
		// Texts on both sides of what is no piece are one; each is read by itself.
		{"a</>b<title>c", `T"ab";S<title>;T"c"`}, {"</><title></title></>a</>b", `S<title>;E<title>;T"ab"`}, {"<title>a</>b</title></></>", `S<title>;T"a</>b";E<title>`}, {"&am</>p;", `T"&amp;"`}, {"&am<title>p;</title>&am", `T"&am";S<title>;T"p;";E<title>;T"&am"`}, {"<title>&am</title>p;", `S<title>;T"&am";E<title>;T"p;"`}, {"<title>&amp</title>;", `S<title>;T"&";E<title>;T";"`},
	} {
		checkShow(t, x.s, x.want)
	}
}

// opening is a start tag, and what is told of it behind its name.
type opening struct{ s, told string }

// openings is start tags of a name.
func openings(name string) []opening {
	up := strings.ToUpper(name)
	return []opening{
		{"<" + name + ">", ""}, {"<" + up + ">", ""}, {"<" + up[:1] + name[1:] + ">", ""}, {"<" + name[:1] + up[1:] + "\n>", ""},
		{"<" + name + " x=1 Y='>' x=2>", ` x="1" y=">"`}, {"<" + up + "\tx=\"</" + name + ">\">", ` x="</` + name + `>"`}, {"<" + name + " " + name + ">", " " + name + `=""`}, {"<" + name + " x=&lt;>", ` x="<"`},
		{"<" + name + "/>", "/"}, {"<" + up + "/>", "/"}, {"<" + name + "\f a=b / />", ` a="b"/`}, {"<" + name + "/ >", ""}, {"<" + name + "/x>", ` x=""`},
	}
}

func TestEachStartTag(t *testing.T) {
	for _, x := range kept {
		up := strings.ToUpper(x.name)
		texts := []string{"", "a", "a<b>&lt;c</b>\x00", "</z>", "</" + x.name + "s>", "</" + x.name, "<" + x.name + ">", "<!--a--></>", "</ " + x.name + ">&#65", "\r\n<!doctype html>", "<"}
		ends := []string{"</" + x.name + ">", "</" + up + ">", "</" + up[:2] + x.name[2:] + " >", "</" + x.name + "/>", "</" + x.name + "\n\t\f x='>' Y=1 z/>", "</" + x.name + " </" + x.name + ">"}
		more := []opening{{"", ""}, {"b&lt;\x00<i>", `T"b<\x00";S<i>`}, {"</" + x.name + ">", "E<" + x.name + ">"}, {"</>b<!--c-->", `T"b";C"c"`}, {"<" + x.name + ">", "S<" + x.name + ">"}}
		for _, first := range openings(x.name) {
			start := "S<" + x.name + ">" + first.told
			for _, says1 := range texts {
				checkShow(t, first.s+says1, in(start, text(says(says1, x.state))))
				for _, end := range ends {
					for _, last := range more {
						s := first.s + says1 + end + last.s
						want := in(start, text(says(says1, x.state)), "E<"+x.name+">", last.told)
						if x.state == api.Plaintext {
							want = in(start, text(clean(s[len(first.s):])))
						}
						checkShow(t, s, want)
					}
				}
			}
		}
	}
}

func TestEachMixtureOfLetters(t *testing.T) {
	for _, x := range kept {
		for _, mixed := range eachCase(x.name) {
			want := "S<" + x.name + `>;T"<b>";E<` + x.name + `>;S<i>`
			if x.state == api.Plaintext {
				want = "S<" + x.name + ">;" + text("<b></"+mixed+"><i>")
			}
			if s := "<" + mixed + "><b></" + mixed + "><i>"; show(Drive(s)) != want {
				t.Errorf("Drive(%q): %s, want %s", s, show(Drive(s)), want)
			}
		}
	}
}

func TestEndTagsCutShort(t *testing.T) {
	for _, x := range kept {
		for _, end := range []string{">", " >", "/>", "\n x='>' y>", " / z=1/>", "\f</" + x.name + ">"} {
			for _, name := range []string{x.name, strings.ToUpper(x.name)} {
				whole := "</" + name + end
				for n := range len(whole) + 1 {
					want := in("S<"+x.name+">", text("a"+whole[:n]))
					if x.state != api.Plaintext && n > len(name)+2 {
						want = "S<" + x.name + `>;T"a"`
					}
					if x.state != api.Plaintext && n == len(whole) {
						want += ";E<" + x.name + ">"
					}
					checkShow(t, "<"+x.name+">a"+whole[:n], want)
					// With nothing ahead of it, and with one that is whole ahead of it.
					check(t, "<"+x.name+">"+whole[:n])
					check(t, "<"+x.name+">"+whole+"a"+whole[:n])
					// Without one of its bytes.
					check(t, "<"+x.name+">a"+whole[:n]+whole[min(n+1, len(whole)):]+"b</"+x.name+">c")
				}
			}
		}
	}
}

func TestStartTagsCutShort(t *testing.T) {
	for _, x := range kept {
		for _, first := range openings(x.name) {
			for n := range len(first.s) {
				want := `T"a"`
				if n == 1 {
					want = `T"a<"`
				}
				checkShow(t, "a"+first.s[:n], want)
				check(t, first.s[:n]+first.s+"<b></"+x.name+">")
				check(t, first.s[:n]+first.s[n+1:]+"<b></"+x.name+"><i>")
			}
		}
		// One in whose quotes all that stands behind it is.
		for _, quote := range []string{"'", `"`} {
			checkShow(t, "a<"+x.name+" x="+quote+"><b></"+x.name+">c<!---->", `T"a"`)
			checkShow(t, "a<"+x.name+">b</"+x.name+">c</>d<"+x.name+" x="+quote+"><b>", map[bool]string{
				false: `T"a";S<` + x.name + `>;T"b";E<` + x.name + `>;T"cd"`,
				true:  `T"a";S<` + x.name + ">;" + text("b</"+x.name+">c</>d<"+x.name+" x="+quote+"><b>"),
			}[x.state == api.Plaintext])
		}
	}
}

func TestEndTagsAlone(t *testing.T) {
	for _, x := range kept {
		end := "E<" + x.name + ">"
		for _, name := range []string{x.name, strings.ToUpper(x.name), x.name + " x='>'", x.name + "/", x.name + "\n"} {
			checkShow(t, "</"+name+">", end)
			checkShow(t, "</"+name+">a<b>&lt;\x00", end+`;T"a";S<b>;T"<\x00"`)
			checkShow(t, "a&lt;</"+name+"><b></b>", `T"a<";`+end+";S<b>;E<b>")
			checkShow(t, "</"+name+"></"+name+"><!--a-->", end+";"+end+`;C"a"`)
			checkShow(t, "<b></"+name+"></b>", "S<b>;"+end+";E<b>")
			checkShow(t, "a</>b</"+name+">c</>d", `T"ab";`+end+`;T"cd"`)
		}
		// One that isn't ended.
		checkShow(t, "a</"+x.name, `T"a"`)
		checkShow(t, "a</"+x.name+" <b>", `T"a";`+end)
		checkShow(t, "a</"+x.name+" '<b", `T"a"`)
	}
}

func TestEachByteInATag(t *testing.T) {
	for _, c := range eachByte() {
		closes := strings.Contains(closers, c)
		for _, x := range kept {
			// Behind the name of the start tag: a longer name is another one's.
			l := Drive("<" + x.name + c + "><b></" + x.name + "><i>")
			if len(l) == 0 || (l[0].Name == x.name) != closes || closes && slices.ContainsFunc(l, func(t api.Token) bool { return t.Name == "b" }) || !closes && show(l[len(l)-3:]) != "S<b>;E<"+x.name+">;S<i>" {
				t.Errorf("%s and the byte %q: %s", x.name, c, show(l))
			}
			// Behind that of the end tag.
			l = Drive("<" + x.name + ">a</" + x.name + c + ">")
			if x.state != api.Plaintext && (len(l) > 2) != closes || l[1].Kind != api.Text || (l[1].Text == "a") != (closes && x.state != api.Plaintext) {
				t.Errorf("%s and the byte %q: %s", x.name, c, show(l))
			}
			check(t, "<"+x.name+c+"><b></"+x.name+c+">d</"+x.name+"><i>")
			check(t, "<"+c+x.name+"><b></"+c+x.name+">d</"+x.name+"><i>")
			check(t, "<"+x.name+">"+c+"</"+x.name+">"+c)
			check(t, "<"+x.name+"><"+c+x.name+">&"+c+"</"+x.name+">")
		}
	}
}

func TestReferences(t *testing.T) {
	checkReference := func(s string) {
		t.Helper()
		for _, x := range kept {
			read := ref.Decode(s, false)
			want := in("S<"+x.name+">", text(s), "E<"+x.name+">", text(read))
			switch x.state {
			case api.Rcdata:
				want = in("S<"+x.name+">", text(clean(read)), "E<"+x.name+">", text(read))
			case api.Plaintext:
				want = in("S<"+x.name+">", text(s+"</plaintext>"+s))
			}
			if got := show(Drive("<" + x.name + ">" + s + "</" + x.name + ">" + s)); got != want {
				t.Errorf("%q in %s: %s, want %s", s, x.name, got, want)
			}
		}
	}
	for _, line := range strings.Split(strings.TrimSpace(api.Names), "\n") {
		name, _, _ := strings.Cut(line, " ")
		checkReference("&" + name)
	}
	for _, s := range []string{"&#65;", "&#x41", "&#0;", "&#128;", "&#xD800;", "&#1114112;", "&#", "&", "&;", "&x;", "&notit;", "&amp;lt;", "&lt;b>", "&copy=1", "&NotEqualTilde;"} {
		checkReference(s)
	}
	// In a title and a text area they are read, as in data; what they tell ends nothing.
	for _, x := range []struct{ s, want string }{
		{"<title>&lt;/title>a</title>", `S<title>;T"</title>a";E<title>`}, {"<textarea>&#60;/textarea>&#0;</textarea>", `S<textarea>;T"</textarea>` + bad + `";E<textarea>`}, {"<title>&amp;lt;</title>", `S<title>;T"&lt;";E<title>`}, {"<title>&copy=1&notit;", `S<title>;T"©=1¬it;"`}, {"<title>&lt</title>;", `S<title>;T"<";E<title>;T";"`},
		{"<script>&lt;/script>\x00&#0;</script>&#0;", `S<script>;T"&lt;/script>` + bad + `&#0;";E<script>;T"` + bad + `"`}, {"<noscript>&amp;&#65;\x00</noscript>&#65;", `S<noscript>;T"&amp;&#65;` + bad + `";E<noscript>;T"A"`}, {"<plaintext>&amp;&#65;\x00", `S<plaintext>;T"&amp;&#65;` + bad + `"`},
		// In the name of a tag they aren't.
		{"<titl&#101;><b>", "S<titl&#101;>;S<b>"}, {"<title>a</titl&#101;>", `S<title>;T"a</title>"`},
	} {
		checkShow(t, x.s, x.want)
	}
}

func TestPrograms(t *testing.T) {
	for _, x := range []struct{ s, want string }{
		// A program within a comment in a program has an end of its own.
		{"<script><!--<script></script></script>b", `S<script>;T"<!--<script></script>";E<script>;T"b"`}, {"<script><!--<script>a</script>--></script>b", `S<script>;T"<!--<script>a</script>-->";E<script>;T"b"`}, {"<script><!--<SCRIPT/></sCript\n></SCRIPT x>b", `S<script>;T"<!--<SCRIPT/></sCript\n>";E<script>;T"b"`}, {"<script x/><!--<script></script></script><b>", `S<script> x=""/;T"<!--<script></script>";E<script>;S<b>`}, {"<script><!--<script>a<script></script></script>b", `S<script>;T"<!--<script>a<script></script>";E<script>;T"b"`}, {"<script><!--<script>--></script>b", `S<script>;T"<!--<script>-->";E<script>;T"b"`}, {"<script><!--<script></script><script></script></script>b", `S<script>;T"<!--<script></script><script></script>";E<script>;T"b"`}, {"<script><!--<scripts></script>b", `S<script>;T"<!--<scripts>";E<script>;T"b"`},
		// And none else, so that it goes on to the text's end.
		{"<script><!--<script></script>b<b>", `S<script>;T"<!--<script></script>b<b>"`}, {"<script><!--<script>", `S<script>;T"<!--<script>"`}, {"<script><!--<script></script></script", `S<script>;T"<!--<script></script></script"`}, {"<script><!--<script></script></script ", `S<script>;T"<!--<script></script>"`},
		// In a comment alone, and where there is none, it ends at once.
		{"<script><!--</script>--></script>b", `S<script>;T"<!--";E<script>;T"-->";E<script>;T"b"`}, {"<script><script></script></script>b", `S<script>;T"<script>";E<script>;E<script>;T"b"`}, {"<script><!--><script></script></script>b", `S<script>;T"<!--><script>";E<script>;E<script>;T"b"`}, {"<script><!-<script></script></script>b", `S<script>;T"<!-<script>";E<script>;E<script>;T"b"`},
		// A comment that is open behind a program, or ahead of it, is none within it.
		{"<script></script><!--<script></script>-->b", `S<script>;E<script>;C"<script></script>";T"b"`}, {"<!--<script>--></script>b", `C"<script>";E<script>;T"b"`}, {"<script><!--</script><script><script></script></script>b", `S<script>;T"<!--";E<script>;S<script>;T"<script>";E<script>;E<script>;T"b"`},
		// In the other tags' texts there is none.
		{"<style><!--<style></style></style>b", `S<style>;T"<!--<style>";E<style>;E<style>;T"b"`}, {"<title><!--<title></title>--></title>", `S<title>;T"<!--<title>";E<title>;T"-->";E<title>`}, {"<xmp><!--<script></xmp></script>b", `S<xmp>;T"<!--<script>";E<xmp>;E<script>;T"b"`}, {"<noscript><script><!--</noscript></script>--><b>", `S<noscript>;T"<script><!--";E<noscript>;E<script>;T"-->";S<b>`},
		{"<plaintext><script><!--<script></script></script></plaintext><b>&lt;\x00", `S<plaintext>;T"<script><!--<script></script></script></plaintext><b>&lt;` + bad + `"`}, {"<script><plaintext></script><plaintext></script>", `S<script>;T"<plaintext>";E<script>;S<plaintext>;T"</script>"`},
	} {
		checkShow(t, x.s, x.want)
	}
	for n := range 6 {
		eachText([]string{"<!--", "-->", "<script>", "</script>", "</script ", "a", "<", "-"}, n, func(s string) { check(t, "<script>"+s) })
	}
}

func TestTagsBesideAndWithinTags(t *testing.T) {
	for _, x := range kept {
		for _, y := range kept {
			first, second := "<"+x.name+">&amp;</"+x.name+">", "<"+y.name+">&amp;</"+y.name+">"
			told := in("S<"+y.name+">", text(says("&amp;", y.state)), "E<"+y.name+">")
			if y.state == api.Plaintext {
				told = in("S<plaintext>", text("&amp;</plaintext>"))
			}
			ahead := in("S<"+x.name+">", text(says("&amp;", x.state)), "E<"+x.name+">")
			beside, within := in(ahead, told), in("S<"+x.name+">", text(says(second, x.state)), "E<"+x.name+">", `T"c<"`, "S<b>")
			switch {
			case x.state == api.Plaintext:
				beside = in("S<plaintext>", text("&amp;</plaintext>"+second))
				within = in("S<plaintext>", text(second+"</plaintext>c&lt;<b>"))
			case x == y:
				within = in("S<"+x.name+">", text(says("<"+x.name+">&amp;", x.state)), "E<"+x.name+">", "E<"+x.name+">", `T"c<"`, "S<b>")
			}
			checkShow(t, first+second, beside)
			checkShow(t, "<"+x.name+">"+second+"</"+x.name+">c&lt;<b>", within)
			// The first has no end: the second is text, unless it is of the same name.
			if x.state != api.Plaintext && x != y {
				checkShow(t, "<"+x.name+">"+second, in("S<"+x.name+">", text(says(second, x.state))))
			}
			// An end tag of another name first, and more data behind each.
			if x.state != api.Plaintext && x != y {
				checkShow(t, "<"+x.name+"></"+y.name+"></"+x.name+"></"+y.name+">d", in("S<"+x.name+">", text("</"+y.name+">"), "E<"+x.name+">", "E<"+y.name+">", `T"d"`))
			}
			for _, z := range kept {
				check(t, first+"1"+second+"2<"+z.name+">3"+first+"4</"+z.name+">5<"+y.name+"/>6")
			}
		}
	}
}

func TestMarkupBetweenTexts(t *testing.T) {
	for _, x := range []struct{ s, want string }{
		{"a<!--x-->b", `T"a";C"x";T"b"`}, {"a<!doctype x>b", `T"a";D" x";T"b"`}, {"a</>b", `T"ab"`}, {"a</></>b</>c", `T"abc"`}, {"</>", ""}, {"</></>", ""}, {"a<?x>b</ y>c<!z>d", `T"a";C"?x";T"b";C" y";T"c";C"z";T"d"`}, {"a</>b<!---->c</>d<!doctype>e</>f<p>g</>h</p>i</>j", `T"ab";C;T"cd";D;T"ef";S<p>;T"gh";E<p>;T"ij"`},
		{"<title></title>a</>b", `S<title>;E<title>;T"ab"`}, {"a</></title></>b", `T"a";E<title>;T"b"`}, {"a</title </>b", `T"a";E<title>;T"b"`}, {"a<!--x", `T"a";C"x"`}, {"<title>a</title><!--b<title>c", `S<title>;T"a";E<title>;C"b<title>c"`}, {"<title>a</title><!doctype b<title>c</title>", `S<title>;T"a";E<title>;D" b<title";T"c";E<title>`}, {"<!DOCTYPE html><title>a</title><!--b--><p>c</p>", `D" html";S<title>;T"a";E<title>;C"b";S<p>;T"c";E<p>`},
	} {
		checkShow(t, x.s, x.want)
	}
	for _, x := range kept {
		inner := "a<!--x-->b<!doctype y>c</>d<?z>e"
		want := in("S<"+x.name+">", text(inner), "E<"+x.name+">", `T"a"`, `C"x"`, `T"b"`, `D" y"`, `T"cd"`, `C"?z"`, `T"e"`)
		if x.state == api.Plaintext {
			want = in("S<"+x.name+">", text(inner+"</plaintext>"+inner))
		}
		checkShow(t, "<"+x.name+">"+inner+"</"+x.name+">"+inner, want)
	}
}

func TestTextWithoutSuchATag(t *testing.T) {
	// Names that are near to the ten, end tags of these, and whatever else is data.
	parts := []string{"a", "&lt;", "</>", "<b>", "</b>", "<!--<title>-->", "<!doctype>", "<?script>", "</title>", "</script >", "</PLAINTEXT/>", "<titles>", "<x title='<xmp>'/>", "<script-x>", "<no>", "<", "\x00", "< style>", "&lt;xmp>"}
	for n := range 4 {
		eachText(parts, n, func(s string) {
			if data := tok.Tok(s, api.Data, ""); !sameTokens(Drive(s), data) {
				t.Errorf("Drive(%q): %s, in data %s", s, show(Drive(s)), show(data))
			}
			for _, cut := range []string{"<title", "<script ", "<plaintext x='>", "</xmp", "<"} {
				if data := tok.Tok(s+cut, api.Data, ""); !sameTokens(Drive(s+cut), data) {
					t.Errorf("Drive(%q): %s, in data %s", s+cut, show(Drive(s+cut)), show(data))
				}
			}
			check(t, s)
		})
	}
}

func TestDriveOfParts(t *testing.T) {
	// Each of these tells the same, whatever stands beside it.
	parts := []struct{ s, told string }{{"a", `T"a"`}, {"&amp;", `T"&"`}, {"</>", ""}, {"<b>", "S<b>"}, {"</title>", "E<title>"}, {"<!--<title>-->", `C"<title>"`}, {"<!doctype d>", `D" d"`}, {"<title/></>&lt;</TITLE x>", `S<title>/;T"</><";E<title>`}, {"<XMP></xmp>", "S<xmp>;E<xmp>"}, {"<style x>&lt;</xmp></style\n>", `S<style> x="";T"&lt;</xmp>";E<style>`}, {"<script><!--<script></script></script>", `S<script>;T"<!--<script></script>";E<script>`}, {"\x00", `T"\x00"`}}
	var digits []string
	for k := range parts {
		digits = append(digits, string([]byte{byte(k)}))
	}
	for n := range 5 {
		eachText(digits, n, func(of string) {
			s := ""
			var told []string
			for k := range len(of) {
				part := parts[of[k]]
				s += part.s
				last := len(told) - 1
				switch {
				case part.told == "":
				case part.told[0] == 'T' && last >= 0 && told[last][0] == 'T':
					told[last] = strings.TrimSuffix(told[last], `"`) + part.told[2:]
				default:
					told = append(told, part.told)
				}
			}
			want := strings.Join(told, ";")
			if got := show(Drive(s)); got != want {
				t.Errorf("Drive(%q): %s, want %s", s, got, want)
			}
			// Behind it one that has no end, and so reads all of it as text.
			for _, name := range []string{"plaintext", "noframes"} {
				if got := show(Drive(s + "<" + name + ">" + s)); got != in(want, "S<"+name+">", text(clean(s))) {
					t.Errorf("Drive(%q): %s", s+"<"+name+">"+s, got)
				}
			}
		})
	}
}

func TestAllShortTexts(t *testing.T) {
	bytes := eachByte()
	for _, ahead := range []string{"", "<", "<title>", "<title></title", "<xmp></", "<script><!--", "<plaintext>", "<title"} {
		for n := range 3 {
			eachText(bytes, n, func(s string) {
				s = ahead + s
				if got, want := Drive(s), wantDrive(s); !sameTokens(got, want) {
					t.Errorf("Drive(%q): %s, want %s", s, show(got), show(want))
				}
			})
		}
	}
	parts := []string{"<title", "</title", "<XMP", "</xmp", "<script", "</script", "<plaintext", "<!--", "-->", ">", "/", " ", "'", "=", "a", "&lt;", "\x00", "<"}
	for n := range 5 {
		eachText(parts, n, func(s string) { check(t, s) })
	}
	for n := range 6 {
		eachText([]string{"<title>", "</title>", "<script>", "</script ", "<xmp/>", "</XMP>", "<!--", "</>", "a"}, n, func(s string) { check(t, s) })
	}
}

func TestLongTexts(t *testing.T) {
	const n = 1 << 16
	for _, x := range []struct {
		part string
		each int // how many tokens there are of each
	}{
		{"<title></title>", 2}, {"<title>a</title>", 3}, {"<title>a</title>b", 4}, {"<xmp><xmp></xmp></xmp>", 4}, {"<script><!--<script></script></script>", 3}, {"<style/>&lt;</style x>", 3}, {"</title>", 1}, {"<b></>", 1}, {"<!--<title>-->", 1}, {"</plaintext></script>", 2},
	} {
		l := Drive(strings.Repeat(x.part, n))
		if len(l) != n*x.each {
			t.Errorf("Drive of %q, many times: %d tokens", x.part, len(l))
		}
		checkBehind(t, l)
	}
	if l := Drive(strings.Repeat("a</>", n)); len(l) != 1 || l[0].Text != strings.Repeat("a", n) {
		t.Errorf("%d tokens", len(l))
	}
	// What has no end is read once.
	for _, x := range kept {
		for _, part := range []string{"a", "<", "</", "</z>", "<" + x.name + ">", "</" + x.name, "<!--", "\x00", "&", "</" + x.name + "x>", "<b x='"} {
			s := strings.Repeat(part, n)
			want := []api.Token{{Kind: api.Start, Name: x.name}, {Kind: api.Text, Text: clean(s)}}
			if got := Drive("<" + x.name + ">" + s); !sameTokens(got, want) {
				t.Errorf("Drive of %s and %q, many times: %s", x.name, part, short(show(got)))
			}
			want = append(want, api.Token{Kind: api.End, Name: x.name}, want[0])
			if got := Drive("<" + x.name + ">" + s + "</" + x.name + "><" + x.name + ">"); x.state != api.Plaintext && !sameTokens(got, want) && (x.state != api.Script || part != "<!--" && part != "<script>") {
				t.Errorf("Drive of %s and %q, many times, and its end: %s", x.name, part, short(show(got)))
			}
		}
		if l := Drive(strings.Repeat("<"+x.name+" ", n)); len(l) != 0 {
			t.Errorf("%s: %d tokens", x.name, len(l))
		}
		if l := Drive("<" + x.name + strings.Repeat(" x", n) + ">a"); len(l) != 2 || len(l[0].Attrs) != 1 {
			t.Errorf("%s: %d tokens", x.name, len(l))
		}
		if l := Drive("<" + strings.Repeat(x.name, n) + "><b>"); len(l) != 2 || l[1].Kind != api.Start {
			t.Errorf("%s: %d tokens", x.name, len(l))
		}
	}
}

func TestAnswersAreTheirOwn(t *testing.T) {
	const s = "<title x=1 y=2>a</title>c</>d<xmp z=3>e</xmp><b x=1>"
	const told = `S<title> x="1" y="2";T"a";E<title>;T"cd";S<xmp> z="3";T"e";E<xmp>;S<b> x="1"`
	for range 3 {
		l := Drive(s)
		if show(l) != told {
			t.Fatal(show(l))
		}
		for k := range l {
			for n := range l[k].Attrs {
				l[k].Attrs[n].Value = "changed"
			}
			_ = append(l[k].Attrs, api.Attr{Name: "changed"})
			l[k] = api.Token{Name: "changed"}
		}
	}
	// No two lists of one answer share any memory.
	l := Drive("<title x=1></title><title x=1>")
	l[0].Attrs[0].Value = "2"
	_ = append(l[0].Attrs, api.Attr{Name: "y"})
	if show(l) != `S<title> x="2";E<title>;S<title> x="1"` {
		t.Error(show(l))
	}
}

func TestTheSameEachTime(t *testing.T) {
	for range 300 {
		for _, x := range kept {
			if got := State(x.name); got != x.state {
				t.Errorf("State(%q): %d", x.name, got)
			}
			check(t, "a<"+x.name+">&lt;<b></"+x.name+">c</>d")
		}
		checkNoState(t, "b")
		check(t, "<!DOCTYPE html><title>a&amp;b</title><p>c<script><!--<script></script></script>d<plaintext>e")
	}
}

func FuzzDrive(f *testing.F) {
	for _, s := range []string{"", "<title>a<b></title><b>", "<script>a<!--<script></script></script>b", "<STYLE x>&lt;</style>&lt;", "<plaintext>a</plaintext>", "<textarea/><b></textarea>", "<xmp><b", "</title><b>", "a</>b<title>c", "<noscript>\x00</noscript x='>", "<iframe><!--</iframe>-->", "<noembed></noframes></noembed>", "<!doctype><noframes>&#0;", "<title\x00><title"} {
		f.Add(s)
	}
	f.Fuzz(func(t *testing.T, s string) {
		if len(s) > 1<<12 {
			return
		}
		check(t, s)
		for _, x := range kept {
			check(t, "<"+x.name+">"+s+"</"+x.name+">"+s)
		}
		if stateOf(s) == api.Data {
			checkNoState(t, s)
		}
	})
}
