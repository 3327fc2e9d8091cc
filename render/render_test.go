package render

import (
	"math"
	"slices"
	"strconv"
	"strings"
	"testing"

	"flail/api"
	"flail/flow"
)

// The names that do something, told one by one here, so that the tests share no list with the program; br does, too.
var (
	hiders  = strings.Fields("head iframe noembed noframes noscript script style template title")
	keepers = strings.Fields("listing plaintext pre textarea xmp")
	twos    = strings.Fields("blockquote h1 h2 h3 h4 h5 h6 listing ol p plaintext pre table ul xmp")
	ones    = strings.Fields("address article aside body center dd details dialog dir div dl dt fieldset figcaption figure footer form header hgroup hr html legend li main menu nav option search section summary tr")
)

// plain is names of tags that do nothing.
var plain = strings.Fields("a abbr area audio b base big button canvas caption cite code col colgroup del em embed font frame frameset h0 h7 i img input kbd label link map mark math meta object optgroup param rp rt ruby s select small source span strong sub sup svg tbody td tfoot th thead time track u var video wbr x")

// blanks is the five bytes that are blanks.
const blanks = "\t\n\f\r "

// hides, keeps and ends tell of a name what those lists do.
func hides(name string) bool { return slices.Contains(hiders, name) }
func keeps(name string) bool { return slices.Contains(keepers, name) }
func ends(name string) int {
	switch {
	case slices.Contains(twos, name):
		return 2
	case slices.Contains(ones, name):
		return 1
	}
	return 0
}

// allNames is each name of those lists, once.
func allNames() []string {
	all := slices.Concat(hiders, keepers, twos, ones, plain, []string{"br"})
	slices.Sort(all)
	return slices.Compact(all)
}

// start is a start tag, end an end tag, and text a text.
func start(name string) api.Token { return api.Token{Kind: api.Start, Name: name} }
func end(name string) api.Token   { return api.Token{Kind: api.End, Name: name} }
func text(s string) api.Token     { return api.Token{Kind: api.Text, Text: s} }

// of is pieces, each told as it would be written: <p> and </p> are tags, <!x> is a comment, all else is a text.
func of(written ...string) []api.Token {
	var l []api.Token
	for _, s := range written {
		inner := strings.TrimSuffix(strings.TrimPrefix(s, "<"), ">")
		switch {
		case len(s) < 2 || len(inner) != len(s)-2:
			l = append(l, text(s))
		case inner != "" && inner[0] == '!':
			l = append(l, api.Token{Kind: api.Comment, Text: inner[1:]})
		case inner != "" && inner[0] == '/':
			l = append(l, end(inner[1:]))
		default:
			l = append(l, start(inner))
		}
	}
	return l
}

// many is n of a piece.
func many(n int, t api.Token) []api.Token { return slices.Repeat([]api.Token{t}, n) }

// short is s, or so much of it as a failing test may tell.
func short(s string) string {
	if len(s) > 200 {
		return strconv.Quote(s[:200]) + ".."
	}
	return strconv.Quote(s)
}

// show tells pieces.
func show(l []api.Token) string {
	var told []string
	for _, t := range l {
		switch t.Kind {
		case api.Text:
			told = append(told, short(t.Text))
		case api.Start:
			told = append(told, "<"+short(t.Name)+">")
		case api.End:
			told = append(told, "</"+short(t.Name)+">")
		default:
			told = append(told, "kind "+strconv.Itoa(t.Kind)+" "+short(t.Name)+" "+short(t.Text))
		}
		if len(told) == 30 {
			return strings.Join(told, " ") + " .."
		}
	}
	return strings.Join(told, " ")
}

// reading is what the chapter asks for, read in another way: it knows of each start tag whether it is open still, and takes none out of a list; and it adds up what keeps at the end alone.
type reading struct {
	l    []api.Token
	open []bool
	deep []int
	told *flow.Flow
}

// wanted is what the chapter asks for.
func wanted(l []api.Token) string {
	r := &reading{l: l, open: make([]bool, len(l)), told: flow.New()}
	for k := range l {
		r.read(k)
	}
	return r.told.Text()
}

// read reads the piece k.
func (r *reading) read(k int) {
	name := r.l[k].Name
	switch r.l[k].Kind {
	case api.Start:
		for i := range k {
			if name == "body" && r.l[i].Name == "head" {
				r.open[i] = false
			}
		}
		if hides(name) {
			r.open[k] = true
			return
		}
		r.lay(name, 1)
	case api.End:
		for i := k - 1; i >= 0; i-- {
			if r.open[i] && r.l[i].Name == name {
				clear(r.open[i:])
				return
			}
		}
		r.lay(name, -1)
	case api.Text:
		if !slices.Contains(r.open, true) {
			r.told.Put(r.l[k].Text, depth(r.deep) > 0)
		}
	}
}

// lay is what a tag does where nothing hides it.
func (r *reading) lay(name string, deeper int) {
	if slices.Contains(r.open, true) {
		return
	}
	if name == "br" {
		r.told.Line()
	} else if n := ends(name); n > 0 {
		r.told.Break(n)
	}
	if keeps(name) {
		r.deep = append(r.deep, deeper)
	}
}

// depth is where those steps lead that never go below 0: the greatest sum of some last ones of them.
func depth(steps []int) int {
	most, sum := 0, 0
	for _, step := range slices.Backward(steps) {
		sum += step
		most = max(most, sum)
	}
	return most
}

// is holds what is told of pieces against a text, and P19.2's second half.
func is(t *testing.T, want string, l []api.Token) {
	t.Helper()
	got := Render(l)
	if got != want {
		t.Errorf("%s: %s, want %s", show(l), short(got), short(want))
	}
	if strings.Trim(got, blanks) != got || strings.ContainsAny(got, "\x00\r") {
		t.Errorf("%s: %s isn't tidy", show(l), short(got))
	}
}

// check holds what is told of pieces against what the chapter asks for.
func check(t *testing.T, l []api.Token) {
	t.Helper()
	is(t, wanted(l), l)
}

// eachList hands all lists of n of those pieces to see, which doesn't keep them.
func eachList(of []api.Token, n int, see func([]api.Token)) {
	l := make([]api.Token, n)
	var fill func(k int)
	fill = func(k int) {
		if k == n {
			see(l)
			return
		}
		for _, t := range of {
			l[k] = t
			fill(k + 1)
		}
	}
	fill(0)
}

// starts is a start tag of each name.
func starts(names []string) []api.Token {
	var l []api.Token
	for _, name := range names {
		l = append(l, start(name))
	}
	return l
}

// areOpen holds what is open behind pieces against names: it needs the end tag of each, the last one first, till a text is told.
func areOpen(t *testing.T, names []string, l []api.Token) {
	t.Helper()
	const seen = "seen"
	told := Render(l)
	closed := slices.Clone(l)
	for k := len(names); k > 0; k-- {
		is(t, told, append(closed, text(seen)))
		closed = append(closed, end(names[k-1]))
	}
	closed = append(closed, text(seen))
	if got := Render(closed); !strings.HasPrefix(got, told) || !strings.HasSuffix(got, seen) {
		t.Errorf("%s: %s, %s is open still", show(closed), short(got), strings.Join(names, " "))
	}
}

func TestExamples(t *testing.T) {
	is(t, "a\n\nb", of("<p>", "a", "</p>", "b"))
	is(t, "y", of("<script>", "x", "</script>", "y"))
	is(t, "a\n\nb", of("<p>", "a", "<p>", "b"))
	is(t, "b", of("<script>", "a<!--<script></script>", "</script>", "b"))
	is(t, "", of("<title>", "a<b>", "</title>"))
	is(t, "a & b\n\nc", of("<p>", "a & b", "</p>", "<script>", "x", "</script>", "c"))
}

func TestNoPiece(t *testing.T) {
	is(t, "", nil)
	is(t, "", []api.Token{})
	is(t, "", make([]api.Token, 0, 8))
	is(t, "", []api.Token{{}})
	is(t, "", make([]api.Token, 100))
}

func TestEachNameThatHides(t *testing.T) {
	for _, h := range hiders {
		is(t, "a", of("a", "<"+h+">"))
		is(t, "", of("<"+h+">", "b"))
		is(t, "ac", of("a", "<"+h+">", "b", "</"+h+">", "c"))
		is(t, "a c", of("a ", "<"+h+">", " b ", "</"+h+">", " c"))
		is(t, "abc", of("a", "</"+h+">", "b", "</"+h+">", "c"))
		is(t, "ac", of("a", "</"+h+">", "<"+h+">", "b", "</"+h+">", "</"+h+">", "c"))
		is(t, "abc", of("a", "<"+h+">", "</"+h+">", "b", "<"+h+">", "</"+h+">", "c"))
		areOpen(t, []string{h}, of("a", "<"+h+">", "b"))
		// Of the like within it one end tag ends one.
		areOpen(t, []string{h, h}, of("<"+h+">", "x", "<"+h+">", "y"))
		areOpen(t, []string{h}, of("<"+h+">", "<"+h+">", "y", "</"+h+">"))
		is(t, "z", of("<"+h+">", "<"+h+">", "x", "</"+h+">", "y", "</"+h+">", "z"))
		for _, g := range hiders {
			if g == h {
				continue
			}
			areOpen(t, []string{h, g}, of("<"+h+">", "x", "<"+g+">", "y"))
			areOpen(t, []string{h, g, h}, starts([]string{h, g, h}))
			areOpen(t, []string{h}, of("<"+h+">", "<"+g+">", "</"+g+">"))
			areOpen(t, []string{h}, of("<"+h+">", "</"+g+">"))
			is(t, "z", of("<"+h+">", "<"+g+">", "x", "</"+h+">", "z"))
			is(t, "z", of("<"+h+">", "<"+g+">", "x", "</"+h+">", "</"+g+">", "z"))
			areOpen(t, []string{h, g}, of("<"+h+">", "<"+g+">", "<"+h+">", "<"+g+">", "</"+h+">"))
		}
	}
}

// TestBodyTakesHeadsOut knows what is open behind body: all that isn't head.
func TestBodyTakesHeadsOut(t *testing.T) {
	some := starts([]string{"head", "template", "style"})
	for n := range 7 {
		eachList(some, n, func(l []api.Token) {
			var names []string
			for _, s := range l {
				if s.Name != "head" {
					names = append(names, s.Name)
				}
			}
			ahead := append(of("a", "</p>"), l...)
			areOpen(t, names, append(slices.Clone(ahead), start("body")))
			areOpen(t, names, append(slices.Clone(ahead), of("<body>", "<body>", "</head>", "</body>")...))
			// Behind it heads are open as ever.
			areOpen(t, append(slices.Clone(names), "head"), append(slices.Clone(ahead), of("<body>", "<head>")...))
			check(t, append(slices.Clone(ahead), of("b", "<body>", "c", "</head>", "d", "</template>", "e")...))
		})
	}
	for _, h := range hiders {
		if h == "head" {
			continue
		}
		areOpen(t, []string{h}, starts([]string{"head", h, "body"}))
		areOpen(t, []string{h}, starts([]string{h, "head", "body"}))
		areOpen(t, []string{h, h}, starts([]string{"head", h, "head", h, "head", "head", "body"}))
		areOpen(t, []string{h}, starts([]string{h, "body"}))
	}
}

func TestBody(t *testing.T) {
	is(t, "a\nb", of("a", "<body>", "b"))
	is(t, "a\nb", of("a", "</body>", "b"))
	is(t, "a\nc", of("a", "<head>", "b", "<body>", "c"))
	is(t, "a\nc", of("a", "<head>", "<head>", "b", "<body>", "c"))
	// Where another name is open still, that is all it does.
	is(t, "ac", of("a", "<head>", "<style>", "<body>", "</style>", "c"))
	is(t, "ac", of("a", "<template>", "<head>", "<body>", "b", "</template>", "c"))
	is(t, "a", of("a", "<template>", "<body>", "b", "</body>", "c", "</head>", "d"))
	// Its end tag takes no head out, and no other tag does what its start tag does.
	is(t, "a", of("a", "<head>", "</body>", "b"))
	for _, name := range slices.Concat(allNames(), []string{"", "BODY", "Body", "bod", "bodyx", "body ", "body\x00", "tbody"}) {
		if name == "body" || name == "head" {
			continue
		}
		want := []string{"head"}
		if hides(name) {
			want = append(want, name)
		}
		areOpen(t, want, starts([]string{"head", name}))
		areOpen(t, []string{"head"}, []api.Token{start("head"), end(name)})
	}
	for _, kind := range []int{api.Text, api.End, api.Comment, api.Doctype, 5, -1} {
		is(t, "a", []api.Token{text("a"), start("head"), {Kind: kind, Name: "body", Text: "body"}, text("b")})
	}
}

// TestEndOfAnOpenName holds what is open behind an end tag against where the last of its like stands.
func TestEndOfAnOpenName(t *testing.T) {
	some := starts([]string{"head", "template", "script"})
	for n := range 6 {
		eachList(some, n, func(l []api.Token) {
			var names []string
			for _, s := range l {
				names = append(names, s.Name)
			}
			areOpen(t, names, l)
			for _, s := range some {
				behind := names
				for k, name := range names {
					if name == s.Name {
						behind = names[:k]
					}
				}
				ended := append(slices.Clone(l), end(s.Name))
				areOpen(t, behind, ended)
				areOpen(t, append(slices.Clone(behind), "title"), append(ended, start("title")))
			}
			for _, name := range []string{"style", "body", "p", "br", "pre", "textarea", "b", "", "HEAD", "Script"} {
				areOpen(t, names, append(slices.Clone(l), end(name), start("b"), end(name)))
			}
		})
	}
	// An open name's end tag does nothing else, and is none behind it.
	is(t, "ab", of("a", "<style>", "</style>", "b"))
	is(t, "a b", of("a ", "<script>", "<pre>", "</script>", "", "b"))
	is(t, "ac", of("a", "<style>", "<script>", "</style>", "</script>", "<!x>", "c"))
}

func TestBreaks(t *testing.T) {
	is(t, "a\nb", of("a", "<br>", "b"))
	is(t, "a\nb", of("a", "</br>", "b"))
	is(t, "a\n\nb", of("a", "<br>", "</br>", "b"))
	is(t, "a\n\n\n\nb", of("a", "<br>", "<br>", "</br>", "</br>", "b"))
	is(t, "a\nb", of("<br>", "a ", "<br>", " b", "</br>"))
	is(t, "a\nb", of("a", " ", "<br>", " ", "b"))
	is(t, "a\n  b", of("<textarea>", "a  ", "<br>", "  b"))
	is(t, "a b", of("<br>", "a b", "</br>"))
	for _, h := range hiders {
		is(t, "a", of("a", "<"+h+">", "<br>", "b", "</br>"))
		is(t, "ab", of("a", "<"+h+">", "<br>", "</br>", "</"+h+">", "b"))
		is(t, "a\n\nb", of("a", "<br>", "<"+h+">", "<br>", "</br>", "</"+h+">", "<br>", "b"))
	}
}

// TestEachName holds each name against what its start and end do between two texts.
func TestEachName(t *testing.T) {
	for _, name := range append(allNames(), "BR", "P", "Pre", "") {
		if hides(name) {
			continue
		}
		n, line := ends(name), 0
		if name == "br" {
			line = 1
		}
		// lie is what lies between, where those calls of Line stand beside these tags: of a Break at most n, of a br one more each.
		lie := func(lines, tags int) string { return strings.Repeat("\n", max(n, lines)+line*tags) }
		for _, tag := range []string{"<" + name + ">", "</" + name + ">"} {
			is(t, "a"+lie(0, 1)+"b", of("a", tag, "b"))
			is(t, "a"+lie(0, 2)+"b", of("a", tag, tag, "b"))
			is(t, "a"+lie(0, 3)+"b", of("a", tag, "<!x>", tag, "", tag, "b"))
			for lines := range 5 {
				ahead := append(of("a"), many(lines, start("br"))...)
				is(t, "a"+lie(lines, 1)+"b", append(slices.Clone(ahead), of(tag, "b")...))
				is(t, "a"+lie(lines, 2)+"b", append(slices.Clone(ahead), of(tag, tag, "b")...))
				is(t, "a"+lie(lines, 1)+"\nb", append(slices.Clone(ahead), of(tag, "</br>", "b")...))
			}
			is(t, "b", of(tag, tag, "b", tag, tag))
			is(t, "", of(tag, tag))
			between := lie(0, 1)
			if between == "" {
				between = " "
			}
			is(t, "a"+between+"b", of("a  ", tag, "b"))
		}
		is(t, "a"+lie(0, 2)+"b", of("a", "<"+name+">", "</"+name+">", "b"))
		is(t, "a"+lie(0, 2)+"b", of("a", "</"+name+">", "<"+name+">", "b"))
	}
}

func TestEachPairOfNames(t *testing.T) {
	var tags []api.Token
	for _, name := range allNames() {
		tags = append(tags, start(name), end(name))
	}
	for _, x := range tags {
		for _, y := range tags {
			check(t, []api.Token{text("a "), x, text(" b  "), y, text("  c")})
			check(t, []api.Token{text("a "), x, y, text("  c")})
			check(t, []api.Token{text("a"), x, y, x, text("b"), y, text("\rc \x00"), x, text("d")})
		}
	}
}

func TestKept(t *testing.T) {
	// With no lines' ends about it, textarea shows what Kept alone does.
	is(t, "a  bc d", of("<textarea>", "a  b", "</textarea>", "c  d"))
	is(t, "a  bc  de f", of("<textarea>", "<textarea>", "a  b", "</textarea>", "c  d", "</textarea>", "e  f"))
	is(t, "a b", of("</textarea>", "a  b"))
	is(t, "a bc  d", of("</textarea>", "</textarea>", "a  b", "<textarea>", "c  d"))
	is(t, "a bc  de f", of("</textarea>", "a  b", "<textarea>", "c  d", "</textarea>", "</textarea>", "e  f"))
	is(t, "a  bc d", of("<textarea>", "</textarea>", "</textarea>", "<textarea>", "a  b", "</textarea>", "c  d"))
	// Lines that a text keeps are Line each.
	is(t, "a\n\nb\n\nc", of("<pre>", "\na\n\rb", "</pre>", "\nc"))
	is(t, "a\n\n\nb", of("<pre>", "a\n\n\n", "</pre>", "b"))
	is(t, "a\n\n  b", of("a", "<pre>", "  b", "</pre>"))
	is(t, "a\n\n\t b\n\fc", of("a ", "<pre>", "\t b \n\fc  ", "</pre>"))
	for _, k := range keepers {
		mid := strings.Repeat("\n", ends(k))
		open, shut := "<"+k+">", "</"+k+">"
		is(t, "a  b"+mid+"c d", of(open, "a  b", shut, "c  d"))
		is(t, "a  b"+mid+"c  d"+mid+"e f", of(open, open, "a  b", shut, "c  d", shut, "e  f"))
		is(t, "a b"+mid+"c d", of("a  b", shut, "c  d"))
		is(t, "a b"+mid+"c  d", of(shut, shut, shut, "a  b", open, "c  d"))
		is(t, "a b"+mid+"c  d"+mid+"e f", of(shut, "a  b", open, "c  d", shut, "e  f"))
		deep := slices.Concat(many(1000, start(k)), many(999, end(k)), of("a  b"), many(1, end(k)), of("c  d"))
		is(t, "a  b"+mid+"c d", deep)
		for _, g := range keepers {
			// They are counted, whatever their names: the end of one ends another one.
			both := strings.Repeat("\n", max(ends(k), ends(g)))
			is(t, "a  b"+strings.Repeat("\n", ends(g))+"c d", of(open, "a  b", "</"+g+">", "c  d"))
			is(t, "a  b"+strings.Repeat("\n", ends(g))+"c  d", of(open, "<"+g+">", "a  b", "</"+g+">", "c  d"))
			is(t, "a  b"+both+"c d", of(open, "<"+g+">", "a  b", shut, "</"+g+">", "c  d"))
		}
		for _, h := range hiders {
			in, out := "<"+h+">", "</"+h+">"
			is(t, "a b", of(in, open, out, "a  b"))
			is(t, "a b", of(in, open, open, "x", shut, out, "a  b"))
			is(t, "a  b", of(open, in, shut, shut, out, "a  b"))
			is(t, "a  b"+mid+"c d", of(open, in, open, "x", out, "a  b", shut, "c  d"))
		}
	}
}

// TestHiddenPlaysNoPart lays within each name that hides what may stand there, between texts of each kind.
func TestHiddenPlaysNoPart(t *testing.T) {
	within := of("<br>", "</br>", "<p>", "</li>", "<pre>", "</pre>", "<textarea>", "x", " \n", "", "<!x>", "<b>", "<body>", "</body>", "<style>", "</script>", "<HEAD>", "<>", "</>", "</title")
	within = append(within, api.Token{Kind: api.Doctype, Text: "html"}, api.Token{Kind: 9, Name: "p", Text: "x"})
	around := [][2][]api.Token{{nil, nil}, {of("a "), of(" b")}, {of("a"), of("<br>", "b")}, {of("<pre>", "a "), of("  b\n", "</pre>", "c  d")}, {of("a", "<li>"), of("</p>", "b  c")}, {of("</textarea>", "a  "), of("<textarea>", "b  c")}}
	for _, h := range hiders {
		for n := range 4 {
			eachList(within, n, func(l []api.Token) {
				if n == 3 && h != "head" && h != "template" {
					return
				}
				shut := many(1, end(h))
				for _, x := range l {
					switch {
					case x.Kind == api.End && x.Name == h, h == "head" && x.Kind == api.Start && x.Name == "body":
						return
					case x.Kind == api.Start && x.Name == h:
						// Its own like within it needs an end of its own.
						shut = append(shut, end(h))
					}
				}
				hidden := slices.Concat([]api.Token{start(h)}, l, shut)
				for _, x := range around {
					want := Render(slices.Concat(x[0], x[1]))
					is(t, want, slices.Concat(x[0], hidden, x[1]))
					is(t, Render(x[0]), slices.Concat(x[0], hidden[:len(hidden)-len(shut)]))
				}
			})
		}
		for _, name := range allNames() {
			if name == h {
				continue
			}
			is(t, "a b", of("a ", "<"+h+">", "</"+name+">", "x", "</"+h+">", "b"))
			if h != "head" || name != "body" {
				is(t, "a b", of("a ", "<"+h+">", "<"+name+">", "x", "</"+h+">", "b"))
				is(t, "a b", of("a ", "<"+h+">", "x", "<"+name+">", "</"+name+">", "x", "</"+h+">", "b"))
			}
		}
	}
}

func TestTexts(t *testing.T) {
	for _, x := range []struct {
		says, loose, kept string
	}{
		{"", "", ""}, {" ", "", ""}, {"\x00", "", ""}, {"\x00\x00 \x00", "", ""}, {blanks, "", ""},
		{"a", "a", "a"}, {" a ", "a", "a"}, {"\n\na\r\r", "a", "a"}, {"a\x00b", "ab", "ab"}, {"\x00a\x00", "a", "a"},
		{"a  b", "a b", "a  b"}, {"a \x00 b", "a b", "a  b"}, {"a\t\fb", "a b", "a\t\fb"},
		{"a\nb", "a b", "a\nb"}, {"a\r\nb", "a b", "a\n\nb"}, {"a \n b", "a b", "a\n b"}, {"a\n\n\nb", "a b", "a\n\n\nb"},
		{"a\vb", "a\vb", "a\vb"}, {"a\xc2\xa0 \xe2\x80\xa8b", "a\xc2\xa0 \xe2\x80\xa8b", "a\xc2\xa0 \xe2\x80\xa8b"}, {"\xff \xfe\x80", "\xff \xfe\x80", "\xff \xfe\x80"}, {"\xef\xbb\xbfa", "\xef\xbb\xbfa", "\xef\xbb\xbfa"},
		// What other rules have for a blank is none here, at the edges, too.
		{"\v", "\v", "\v"}, {" \va\v ", "\va\v", "\va\v"}, {"\xc2\x85a\xc2\xa0 ", "\xc2\x85a\xc2\xa0", "\xc2\x85a\xc2\xa0"}, {"\x1ca\x1f\x7f", "\x1ca\x1f\x7f", "\x1ca\x1f\x7f"}, {"\xe3\x80\x80a\xe2\x80\xa9", "\xe3\x80\x80a\xe2\x80\xa9", "\xe3\x80\x80a\xe2\x80\xa9"},
		{"<p>a</p> &amp; <script>b", "<p>a</p> &amp; <script>b", "<p>a</p> &amp; <script>b"}, {"br", "br", "br"}, {"</head", "</head", "</head"},
	} {
		is(t, x.loose, []api.Token{text(x.says)})
		is(t, x.kept, []api.Token{start("textarea"), text(x.says)})
		is(t, x.kept, []api.Token{start("pre"), text(x.says), end("pre")})
		is(t, "", []api.Token{start("style"), text(x.says)})
		is(t, "", []api.Token{start("pre"), start("title"), text(x.says), end("pre")})
		is(t, x.loose, []api.Token{start("head"), text(x.says), end("head"), text(x.says)})
		// Cut in two, at each byte, it is as it is whole; and where nothing parts the two.
		for at := range len(x.says) + 1 {
			for _, between := range [][]api.Token{nil, of(""), of("<!x>"), of("<b>", "</i>"), of("<style>", " x ", "</style>"), {{Kind: 9}}} {
				cut := slices.Concat([]api.Token{text(x.says[:at])}, between, []api.Token{text(x.says[at:])})
				is(t, x.loose, cut)
				is(t, x.kept, slices.Concat(of("<textarea>"), cut))
			}
		}
	}
	is(t, "a b c", of(" ", "a", " ", " ", "b", "\n", "c", "\t"))
	is(t, "a \t b", of("<textarea>", "a", " \t", " ", "b", "\n "))
	is(t, "a   b", of("a  ", "<textarea>", "  b", "</textarea>"))
	is(t, "a  b", of("<textarea>", "a  ", "</textarea>", "  b"))
	is(t, "abc", of("a", "<style>", "x", "</style>", "b", "<style>", "y", "</style>", "c"))
}

// TestOtherKinds lays pieces of kinds that do nothing between others, with each name.
func TestOtherKinds(t *testing.T) {
	for _, kind := range []int{api.Comment, api.Doctype, 5, 6, 9, 100, 256, 257, 258, 1 << 32, 1<<32 + 1, -1, -2, -3, math.MaxInt, math.MinInt, math.MinInt + 1} {
		for _, name := range append(allNames(), "", "x y", "P") {
			other := api.Token{Kind: kind, Name: name, Text: name}
			is(t, "", []api.Token{other})
			is(t, "a b", []api.Token{other, text("a "), other, text(" b"), other, other})
			is(t, "a  b", []api.Token{start("textarea"), other, text("a "), other, text(" b")})
			is(t, "a\nb", []api.Token{text("a"), start("br"), other, text("b")})
			is(t, "", []api.Token{start("head"), other, text("a"), other, other})
			other.Attrs, other.Self, other.Text = []api.Attr{{Name: name}}, true, " \n x"
			is(t, "a b", []api.Token{other, text("a "), other, text(" b"), other, other})
		}
	}
}

// dressed is pieces with attributes, with Self, and with a name or a text where they need none.
func dressed(l []api.Token) []api.Token {
	dressed := slices.Clone(l)
	for k := range dressed {
		t := &dressed[k]
		t.Self = true
		t.Attrs = []api.Attr{{Name: "hidden", Value: "x"}, {Name: "style", Value: "display:none"}, {}}
		switch t.Kind {
		case api.Text:
			t.Name = []string{"head", "br", "p", "pre", "body"}[k%5]
		case api.Start, api.End:
			t.Text = []string{"said", " \n", "body", "<p>"}[k%4]
		}
	}
	return dressed
}

// each is a piece of each sort, of those that may do something to each other.
var each = of("<head>", "</head>", "<template>", "</template>", "<body>", "</body>", "<br>", "<p>", "</li>", "<pre>", "</pre>", "<textarea>", "</textarea>", "a", " b ", "\nc\n", "<b>", "<!x>")

func TestWhatPlaysNoPart(t *testing.T) {
	for n := range 4 {
		eachList(each, n, func(l []api.Token) {
			with := append(slices.Clone(l), text("  z"))
			is(t, Render(with), dressed(with))
		})
	}
	is(t, "b", []api.Token{{Kind: api.Start, Name: "script", Self: true}, text("a"), end("script"), text("b")})
	is(t, "a", []api.Token{{Kind: api.Start, Name: "p", Text: "x", Self: true}, text("a"), {Kind: api.End, Name: "p", Text: "y"}})
	is(t, "ab", []api.Token{text("a"), {Kind: api.Text, Name: "br", Text: "b"}, {Kind: api.Text, Name: "style"}, {Kind: api.Text, Name: "p"}})
}

// TestAllShortLists holds all lists of some pieces against what the chapter asks for.
func TestAllShortLists(t *testing.T) {
	for n := range 5 {
		eachList(each, n, func(l []api.Token) { check(t, l) })
	}
	for n := range 7 {
		eachList(of("<head>", "</head>", "<style>", "</style>", "<body>", "a ", "<textarea>", "</textarea>"), n, func(l []api.Token) {
			check(t, append(slices.Clone(l), text(" \nz")))
		})
	}
	for n := range 7 {
		eachList(of("<template>", "</template>", "<br>", "<p>", "</pre>", "<pre>", "a", " \t"), n, func(l []api.Token) {
			check(t, append(slices.Clone(l), text("z")))
		})
	}
}

// eachCase is a word in each mixture of large letters and small ones; the small one is the first.
func eachCase(word string) []string {
	mixed := []string{""}
	for _, c := range strings.Split(word, "") {
		var longer []string
		for _, ahead := range mixed {
			longer = append(longer, ahead+c)
		}
		if large := strings.ToUpper(c); large != c {
			for _, ahead := range mixed {
				longer = append(longer, ahead+large)
			}
		}
		mixed = longer
	}
	return mixed
}

// isNone holds a name against one that does nothing.
func isNone(t *testing.T, name string) {
	t.Helper()
	is(t, "a bc", []api.Token{start(name), text("a "), start(name), text(" b"), end(name), text("c"), end(name)})
	is(t, "a", []api.Token{text("a"), start("head"), start(name), text("b"), end(name), text("c")})
}

func TestLargeLetters(t *testing.T) {
	for _, word := range allNames() {
		mixed := eachCase(word)
		for _, name := range mixed[1:] {
			isNone(t, name)
			if hides(word) {
				is(t, "a", []api.Token{text("a"), start(word), text("b"), end(name), text("c")})
				is(t, "abc", []api.Token{text("a"), start(name), text("b"), end(word), text("c")})
			}
		}
	}
	is(t, "a  b", of("<textarea>", "</TEXTAREA>", "a  b"))
	is(t, "a", of("a", "<head>", "<Body>", "b"))
	is(t, "a\nb", of("a", "<HEAD>", "<body>", "b"))
}

func TestOddNames(t *testing.T) {
	for _, name := range []string{"", " ", "\x00", "0", "2", "-1", "#text", "!doctype", "!--", "/", "/p", "h", "h0", "h7", "\xff", "\xc2", api.Bad, "br/", "p:p", "html:p", "svg"} {
		isNone(t, name)
	}
	for _, name := range allNames() {
		if slices.Contains(plain, name) {
			continue
		}
		for _, odd := range []string{name + " ", " " + name, name + "\x00", "\x00" + name, name + "/", "/" + name, "<" + name + ">", name + "\xff", name + name, name + " " + name, name + "x=1", name + "\n", strings.Repeat(name, 100)} {
			isNone(t, odd)
		}
		for at := range len(name) {
			if less := name[:at] + name[at+1:]; !slices.Contains(allNames(), less) {
				isNone(t, less)
			}
		}
	}
	for _, c := range "abhpst" {
		isNone(t, strings.Repeat(string(c), 1<<20)+"p")
	}
	isNone(t, "head"+strings.Repeat(" ", 1<<20))
	isNone(t, strings.Repeat("\x00", 1<<20))
}

// TestLong goes deep, and far, and back: a tag that looked at all that is open would be slow there.
func TestLong(t *testing.T) {
	const deep, far = 1 << 16, 200000
	is(t, "z", slices.Concat(many(deep, start("template")), many(deep, end("template")), of("z")))
	is(t, "", slices.Concat(many(deep, start("template")), many(deep-1, end("template")), of("z")))
	is(t, "z", slices.Concat(of("<style>"), many(deep, start("template")), of("</style>", "z")))
	is(t, "z", slices.Concat(many(deep, start("head")), of("<body>", "z")))
	is(t, "z", slices.Concat(many(deep, start("template")), slices.Repeat(of("</style>", "</p>", "<head>", "x", "<body>", "y"), far), many(deep, end("template")), of("z")))
	is(t, "z", slices.Concat(slices.Repeat(of("<head>", "<template>", "<title>"), deep/3), slices.Repeat(of("<body>", "</style>"), far), slices.Repeat(of("</title>", "</template>"), deep/3), of("z")))
	is(t, "z", slices.Concat(slices.Repeat(of("<head>", "<head>", "<script>"), deep/3), many(far, end("p")), of("<body>"), many(deep/3, end("script")), of("z")))
	is(t, "a  z", slices.Concat(many(far, start("textarea")), many(far-1, end("textarea")), of("a  z")))
	is(t, "a z", slices.Concat(many(far, start("textarea")), many(far+7, end("textarea")), of("a  z")))
	is(t, "a"+strings.Repeat("\n", far)+"z", slices.Concat(of("a"), many(far, end("br")), of("z")))
	is(t, "a\n\nz", slices.Concat(of("a"), many(far, start("p")), many(far, start("li")), of("z")))
	is(t, "a"+strings.Repeat(" a", far-1), many(far, text(" a  ")))
	is(t, strings.Repeat("ac", far), slices.Repeat(of("a", "<script>", "b", "</script>", "c"), far))
	is(t, strings.Repeat("a\n\n", far)+"b", append(slices.Repeat(of("<p>", "a", "</p>"), far), text("b")))
	is(t, "z", slices.Concat(many(far, api.Token{Kind: api.Comment, Text: "x"}), many(far, api.Token{Kind: 7, Name: "p"}), many(far, start("b")), of("z"), many(far, text(""))))
	big := strings.Repeat("a  b\n\x00", 1<<20)
	is(t, strings.TrimSuffix(strings.Repeat("a b ", 1<<20), " "), of(big))
	is(t, strings.TrimSuffix(strings.Repeat("a  b\n", 1<<20), "\n"), of("<pre>", big, "</pre>"))
	is(t, "", of("<noscript>", big, "</p>", big))
}

// isUnchanged holds pieces against what they were ahead of two calls.
func isUnchanged(t *testing.T, l []api.Token) {
	t.Helper()
	before := slices.Clone(l)
	for k := range before {
		before[k].Attrs = slices.Clone(before[k].Attrs)
	}
	first := Render(l)
	if second := Render(l); first != second {
		t.Errorf("%s, then %s", short(first), short(second))
	}
	for k, x := range l {
		y := before[k]
		if x.Kind != y.Kind || x.Name != y.Name || x.Text != y.Text || x.Self != y.Self || !slices.Equal(x.Attrs, y.Attrs) {
			t.Errorf("piece %d: %+v, was %+v", k, x, y)
		}
	}
}

func TestNothingIsChanged(t *testing.T) {
	twice := append(slices.Clone(each), each...)
	isUnchanged(t, twice)
	isUnchanged(t, dressed(twice))
	for _, x := range twice {
		isUnchanged(t, []api.Token{x})
		isUnchanged(t, dressed([]api.Token{x}))
	}
	// Nor is what lies behind the list, in its memory.
	more := of("<head>", "a", "<body>", "b", "<template>", "c")
	Render(more[:2])
	is(t, "b", more)
	// And a list that is changed leaves what was told of it.
	told := Render(more)
	clear(more)
	if told != "b" {
		t.Errorf("told: %s", short(told))
	}
}

// TestCallsBesideEachOther holds each call against one that goes ahead of it, and leaves names open, blanks kept, and lines' ends waiting.
func TestCallsBesideEachOther(t *testing.T) {
	ahead := [][]api.Token{of("<head>"), of("<template>", "<style>"), of("<pre>", "<textarea>", "a"), of("a", "<br>", "<br>"), of("a  "), of("</pre>"), many(1000, start("script")), nil}
	behind := []struct {
		want string
		l    []api.Token
	}{{"a b", of("a  b")}, {"a\n\nb", of("a", "</p>", "b")}, {"a", of("a", "<style>", "b")}, {"b", of("</head>", "</style>", "</script>", "b")}, {"a  b", of("<textarea>", "a  b", "</textarea>")}}
	for _, x := range ahead {
		for _, y := range behind {
			for range 3 {
				first := Render(x)
				is(t, y.want, y.l)
				if again := Render(x); again != first {
					t.Errorf("%s: %s, then %s", show(x), short(first), short(again))
				}
			}
		}
	}
	// Side by side, too: they share nothing.
	done := make(chan bool)
	for _, y := range behind {
		go func() {
			right := true
			for range 500 {
				right = right && Render(y.l) == y.want
			}
			done <- right
		}()
	}
	for range behind {
		if !<-done {
			t.Error("calls that go on at the same time aren't as they are alone")
		}
	}
}

// FuzzRender reads bytes as pieces: of each two, what it is, and with what.
func FuzzRender(f *testing.F) {
	names := append(allNames(), "head", "head", "body", "br", "pre", "textarea", "")
	for _, s := range []string{"", "0a", "1\x010b2\x01", "1\x101\x112\x100c", "1\x050 0b2\x050 c"} {
		f.Add(s, "a  b")
	}
	f.Fuzz(func(t *testing.T, s, says string) {
		var l []api.Token
		for k := 0; k+1 < len(s); k += 2 {
			name := names[int(s[k+1])%len(names)]
			switch s[k] % 6 {
			case 0:
				l = append(l, text(s[k+1:k+2]))
			case 1, 2:
				l = append(l, start(name))
			case 3, 4:
				l = append(l, end(name))
			case 5:
				l = append(l, []api.Token{text(says), start(says), end(says), {Kind: int(s[k+1]) - 128, Name: name, Text: says}}[s[k+1]%4])
			}
		}
		check(t, l)
		check(t, append(l, text(says)))
	})
}
