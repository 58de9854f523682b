// Package octet is layer 1: bytes, and numbers in them. See shared/doc/01-octet.md.
package octet

import (
	"strings"

	"diacritic/api"
)

// most is how many bytes the longest number has.
const most = 8

// Join is texts, one behind the other.
func Join(parts ...string) string { return strings.Join(parts, "") }

// width is how many bytes a number has of which so many are asked for.
func width(size int) int { return min(max(size, 0), most) }

// Big is a number in so many bytes, the highest first.
func Big(n uint64, size int) string {
	b := make([]byte, width(size))
	for i := range b {
		b[len(b)-1-i] = byte(n >> (8 * i))
	}
	return string(b)
}

// Small is a number in so many bytes, the lowest first.
func Small(n uint64, size int) string {
	b := make([]byte, width(size))
	for i := range b {
		b[i] = byte(n >> (8 * i))
	}
	return string(b)
}

// Safe is a number in four bytes of seven bits, the highest first; false: it is too great.
func Safe(n uint64) (string, bool) {
	if n > api.MaxSafe {
		return "", false
	}
	b := make([]byte, 4)
	for i := range b {
		b[len(b)-1-i] = byte(n >> (7 * i) & 0x7F)
	}
	return string(b), true
}

// In is a text that is read, from its beginning on, and where that stands in a greater one.
type In struct {
	text  string
	read  int // how many of the text's bytes
	base  int
	fault api.Fault
}

// Read is a text that is to be read.
func Read(text string) *In { return Inner(text, 0) }

// Inner is a text that is to be read, that stands at a place of a greater one.
func Inner(text string, base int) *In { return &In{text: text, base: max(base, 0)} }

// Left is how many bytes aren't read.
func (r *In) Left() int {
	if r.Fault().Bad() {
		return 0
	}
	return len(r.text) - r.read
}

// At is the place of the next byte.
func (r *In) At() int {
	if r == nil {
		return 0
	}
	return r.base + r.read
}

// Fault is what was wrong first. A reader that is nil has one too, so whoever asks for it first need not ask for nil.
func (r *In) Fault() api.Fault {
	if r == nil {
		return api.Fault{Errno: api.ErrNil}
	}
	return r.fault
}

// Fail notes what is wrong, if nothing was.
func (r *In) Fail(e api.Errno, at int) {
	if r.Fault().Bad() || e == api.OK {
		return
	}
	r.fault = api.Fault{Errno: e, At: at}
}

// short notes that the text ends too early; of readers that aren't nil.
func (r *In) short() { r.Fail(api.ErrMalformed, r.base+len(r.text)) }

// Take is so many bytes more.
func (r *In) Take(n int) string {
	if r.Fault().Bad() {
		return ""
	}
	if n < 0 || n > r.Left() {
		r.short()
		return ""
	}
	from := r.read
	r.read += n
	return r.text[from:r.read]
}

// Rest is all that isn't read.
func (r *In) Rest() string { return r.Take(r.Left()) }

// Peek is so many bytes more, or as many as there are; they aren't read.
func (r *In) Peek(n int) string {
	if r.Fault().Bad() {
		return ""
	}
	n = min(max(n, 0), r.Left())
	return r.text[r.read : r.read+n]
}

// Big is a number of so many bytes, the highest first.
func (r *In) Big(size int) uint64 {
	b := r.Take(width(size))
	var n uint64
	for i := range len(b) {
		n = n<<8 | uint64(b[i])
	}
	return n
}

// Small is a number of so many bytes, the lowest first.
func (r *In) Small(size int) uint64 {
	b := r.Take(width(size))
	var n uint64
	for i := range len(b) {
		n |= uint64(b[i]) << (8 * i)
	}
	return n
}

// Safe is a number of four bytes of seven bits.
func (r *In) Safe() int {
	at := r.At()
	b := r.Take(4)
	n := 0
	for i := range len(b) {
		if b[i] >= 0x80 {
			r.Fail(api.ErrMalformed, at+i)
			return 0
		}
		n = n<<7 | int(b[i])
	}
	return n
}

// Want reads a text that must be there.
func (r *In) Want(s string) bool {
	next := r.Peek(len(s))
	for i := range len(next) {
		if next[i] != s[i] {
			r.Fail(api.ErrMalformed, r.At()+i)
			return false
		}
	}
	r.Take(len(s)) // where less stands there, this tells so
	return !r.Fault().Bad()
}

// Until is what stands ahead of the next end, which is read too; ends of more bytes are looked for at each so manieth byte.
func (r *In) Until(end string) string {
	if r.Fault().Bad() {
		return ""
	}
	left := r.Peek(r.Left())
	step := max(len(end), 1)
	for n := 0; n+len(end) <= len(left); n += step {
		if left[n:n+len(end)] == end {
			r.read += n + len(end)
			return left[:n]
		}
	}
	r.short()
	return ""
}
