// Package utf is layer 1: see shared/doc/01-utf.md.
package utf

import (
	"strings"
	"unicode/utf8"

	"flail/api"
)

// mark is the sign that may stand ahead of a text to tell that it is UTF-8; there it says nothing else.
const mark = "\uFEFF"

// most is the greatest number of a sign.
const most = 1114111

// Decode reads bytes as signs.
func Decode(b []byte) string {
	s := strings.TrimPrefix(string(b), mark)
	var told strings.Builder
	told.Grow(len(s))
	behind := 0
	for at, r := range s {
		switch {
		case at < behind:
			// The range steps by one byte where it finds no sign: api.Bad stands for this one already.
		case broken(s, at, r):
			told.WriteString(api.Bad)
			behind = at + beginning(s[at:])
		default:
			told.WriteRune(r)
		}
	}
	return told.String()
}

// Right tells whether a text is just signs.
func Right(s string) bool {
	for at, r := range s {
		if broken(s, at, r) {
			return false
		}
	}
	return true
}

// Sign is a sign's bytes.
func Sign(n int) string {
	// A number beyond all signs must not come so far as to be cut to a rune's 32 bits.
	if n < 0 || n > most {
		return api.Bad
	}
	// Of a rune that is no sign (55296 to 57343) this is api.Bad, too.
	return string(rune(n))
}

// broken tells whether no sign's bytes stand in s at the place where a range over it told r.
func broken(s string, at int, r rune) bool {
	// A range tells this rune of what it can't read, but also where its own bytes stand.
	return r == utf8.RuneError && !strings.HasPrefix(s[at:], api.Bad)
}

// beginning is how many bytes the longest beginning has at the start of s, where no sign's bytes stand.
func beginning(s string) int {
	width := announced(s[0])
	r := rune(s[0]) & (127 >> width)
	n := 1
	for n < width-1 && n < len(s) && s[n]&192 == 128 {
		r = r<<6 | rune(s[n]&63)
		// The least number that may come of these bytes stands for all of them: where signs begin and end, so do blocks of 64 and, of four bytes, of 4096.
		least := r << (6 * (width - 1 - n))
		if utf8.RuneLen(least) != width {
			break
		}
		n++
	}
	return n
}

// announced is how many bytes a sign has whose first byte is c, as far as c tells; 1, if it begins none of several.
func announced(c byte) int {
	switch {
	case c < 192 || c > 247:
		return 1
	case c < 224:
		return 2
	case c < 240:
		return 3
	}
	return 4
}
