// Package point is layer 2: signs, and texts made of them. See shared/doc/02-point.md.
package point

import (
	"unicode/utf8"

	"diacritic/api"
)

// Between these two, both ends too, no number is a sign's.
const (
	firstHalf = 0xD800
	lastHalf  = 0xDFFF
)

// Scalar says whether a number is that of a sign.
func Scalar(p rune) bool {
	return p >= 0 && p < firstHalf || p > lastHalf && p <= api.MaxPoint
}

// Text is signs as a text; false: a number is no sign's.
func Text(points ...rune) (string, bool) {
	b := make([]byte, 0, len(points))
	for _, p := range points {
		if !Scalar(p) {
			return "", false
		}
		b = utf8.AppendRune(b, p)
	}
	return string(b), true
}

// Points are a text's signs, or where there is none.
func Points(s string) ([]rune, api.Fault) {
	if f := Check(s); f.Bad() {
		return nil, f
	}
	l := make([]rune, 0, Count(s))
	for _, p := range s {
		l = append(l, p)
	}
	return l, api.Fault{}
}

// Check is where a text has no sign.
func Check(s string) api.Fault {
	for at := 0; at < len(s); {
		p, size := utf8.DecodeRuneInString(s[at:])
		if p == utf8.RuneError && size == 1 { // the sign FFFD itself has three bytes
			return api.Fault{Errno: api.ErrUndecodable, At: at}
		}
		at += size
	}
	return api.Fault{}
}

// Valid says whether a text is made of signs.
func Valid(s string) bool { return utf8.ValidString(s) }

// Count is how many signs a text has; 0, if it isn't made of signs.
func Count(s string) int {
	if !Valid(s) {
		return 0
	}
	return utf8.RuneCountInString(s)
}

// Plain says whether all bytes of a text are below 128.
func Plain(s string) bool {
	for i := range len(s) {
		if s[i] >= utf8.RuneSelf {
			return false
		}
	}
	return true
}
