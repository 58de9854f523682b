package frame_test

import (
	"fmt"
	"math"
	"strings"
	"testing"

	"diacritic/api"
	"diacritic/frame"
	"diacritic/octet"
)

// versions are those that are some, and some that are none.
var versions = []int{2, 3, 4, 0, 1, 5, -1, -2, -4, 6, 34, 256 + 3, 1<<32 + 4, math.MinInt, math.MaxInt}

// known are the versions.
var known = versions[:3]

const nameSigns = "ABCDEFGHIJKLMNOPQRSTUVWXYZ0123456789"

func malformed(at int) api.Fault { return api.Fault{Errno: api.ErrMalformed, At: at} }

// says is what the chapter tells of a frame's second flags.
type says struct {
	locked, grouped, measured, spread bool
}

// saysOf reads them bit by bit.
func saysOf(version int, format byte) says {
	var s says
	has := func(bit byte) bool { return format/bit%2 == 1 }
	switch version {
	case 3:
		s.locked = has(0x80) || has(0x40)
		s.grouped = has(0x20)
	case 4:
		s.grouped = has(0x40)
		s.locked = has(0x08) || has(0x04)
		s.spread = has(0x02)
		s.measured = has(0x01)
	}
	if s.locked {
		return says{locked: true}
	}
	return s
}

// nameSize is how many signs a version's names have.
func nameSize(version int) int {
	if version == 2 {
		return 3
	}
	return 4
}

// isVersion tells whether a version is one.
func isVersion(version int) bool { return 2 <= version && version <= 4 }

// isName tells whether a text is a name.
func isName(version int, id string) bool {
	if !isVersion(version) || len(id) != nameSize(version) {
		return false
	}
	for _, c := range []byte(id) {
		if strings.IndexByte(nameSigns, c) < 0 {
			return false
		}
	}
	return true
}

// dropped is a spread body as it was.
func dropped(b string) string { return strings.ReplaceAll(b, "\xff\x00", "\xff") }

// spreadOut is a body as it is spread.
func spreadOut(b string) string {
	var out strings.Builder
	for i := 0; i < len(b); i++ {
		out.WriteByte(b[i])
		if b[i] == 0xFF && (i+1 == len(b) || b[i+1] == 0 || b[i+1] >= 0xE0) {
			out.WriteByte(0)
		}
	}
	return out.String()
}

// seven is the number of four bytes of seven bits; its second answer is the first byte that has more of them, 4 if none has.
func seven(b string) (int, int) {
	for i := range 4 {
		if b[i] > 127 {
			return 0, i
		}
	}
	return int(b[0])*128*128*128 + int(b[1])*128*128 + int(b[2])*128 + int(b[3]), 4
}

// shown is what a test tells of a frame, whose body may be far too long for that.
func shown(f frame.Frame) string {
	return fmt.Sprintf("%.9q (%x, %x; group %x; %d bytes %.80q; at %d)", f.ID, f.Status, f.Format, f.Group, len(f.Body), f.Body, f.At)
}

// reading is what a reader's frame should come to: the frame, or a fault, or neither, and how much is read.
type reading struct {
	frame frame.Frame
	ok    bool
	fault api.Fault
	read  int
}

// told is what the chapter tells of bytes that stand at a place.
func told(version int, b string, base int, spread bool) reading {
	if !isVersion(version) || b == "" || b[0] == 0 {
		return reading{}
	}
	end, n := base+len(b), nameSize(version)
	if len(b) < n {
		return reading{fault: malformed(end)}
	}
	for i := range n {
		if strings.IndexByte(nameSigns, b[i]) < 0 {
			return reading{fault: malformed(base + i), read: n}
		}
	}
	f := frame.Frame{At: base}
	f.ID = b[:n]
	if version == 2 {
		if len(b) < 6 {
			return reading{fault: malformed(end), read: 3}
		}
		size := int(b[3])<<16 + int(b[4])<<8 + int(b[5])
		if len(b) < 6+size {
			return reading{fault: malformed(end), read: 6}
		}
		f.Body = b[6 : 6+size]
		return reading{frame: f, ok: true, read: 6 + size}
	}
	if len(b) < 8 {
		return reading{fault: malformed(end), read: 4}
	}
	size := int(b[4])<<24 + int(b[5])<<16 + int(b[6])<<8 + int(b[7])
	if version == 4 {
		var wrong int
		if size, wrong = seven(b[4:8]); wrong < 4 {
			return reading{fault: malformed(base + 4 + wrong), read: 8}
		}
	}
	if len(b) < 10 {
		return reading{fault: malformed(end), read: 8}
	}
	f.Status, f.Format = b[8], b[9]
	if version == 4 && spread {
		f.Format |= 2
	}
	if len(b) < 10+size {
		return reading{fault: malformed(end), read: 10}
	}
	x := reading{read: 10 + size}
	if x.fault = toldData(version, b[10:10+size], base+10, &f); !x.fault.Bad() {
		x.ok, x.frame = true, f
	}
	return x
}

// toldData puts into a frame what the chapter tells of its data, that stand at a place.
func toldData(version int, data string, at int, f *frame.Frame) api.Fault {
	s, end := saysOf(version, f.Format), at+len(data)
	if s.grouped {
		if data == "" {
			return malformed(end)
		}
		f.Group = data[0]
		data = data[1:]
	}
	measure, at := -1, end-len(data)
	if s.measured {
		if len(data) < 4 {
			return malformed(end)
		}
		n, wrong := seven(data)
		if wrong < 4 {
			return malformed(at + wrong)
		}
		measure, data = n, data[4:]
	}
	if s.spread {
		data = dropped(data)
	}
	if measure >= 0 && measure != len(data) {
		return malformed(at)
	}
	f.Body = data
	return api.Fault{}
}

// parses holds what is read of bytes that stand behind a place, and what is left of them.
func parses(t *testing.T, version int, b string, base int, spread bool, want reading) {
	t.Helper()
	r := octet.Inner(b, base)
	f, ok := frame.Parse(version, r, spread)
	if f != want.frame || ok != want.ok || r.Fault() != want.fault || r.At() != base+want.read {
		t.Errorf("Parse(%d, %.80q at %d, %v) = %s, %v, %v at %d; not %s, %v, %v at %d", version, b, base, spread, shown(f), ok, r.Fault(), r.At(), shown(want.frame), want.ok, want.fault, base+want.read)
	}
	left := len(b) - want.read
	if want.fault.Bad() {
		left = 0
	}
	if r.Left() != left {
		t.Errorf("Parse(%d, %.80q at %d, %v): %d left, not %d", version, b, base, spread, r.Left(), left)
	}
}

// goes holds what is read of bytes against what the chapter tells of them.
func goes(t *testing.T, version int, b string, base int, spread bool) {
	t.Helper()
	parses(t, version, b, base, spread, told(version, b, base, spread))
}

// sevenOf is a number in four bytes of seven bits.
func sevenOf(n int) string {
	return string([]byte{byte(n / (128 * 128 * 128)), byte(n / (128 * 128) % 128), byte(n / 128 % 128), byte(n % 128)})
}

// written is what the chapter tells of a frame that may be, and is not too large.
func written(version int, f frame.Frame) string {
	s := saysOf(version, f.Format)
	data := f.Body
	if s.spread {
		data = spreadOut(data)
	}
	if s.measured {
		data = sevenOf(len(f.Body)) + data
	}
	if s.grouped {
		data = string([]byte{f.Group}) + data
	}
	n := len(data)
	eight := string([]byte{byte(n >> 24), byte(n >> 16), byte(n >> 8), byte(n)})
	switch version {
	case 2:
		return f.ID + eight[1:] + data
	case 3:
		return f.ID + eight + string([]byte{f.Status, f.Format}) + data
	}
	return f.ID + sevenOf(n) + string([]byte{f.Status, f.Format}) + data
}

// prints holds what a frame that may be is printed as, and what is read of that.
func prints(t *testing.T, version int, f frame.Frame) {
	t.Helper()
	if wrong := f.Check(version); wrong != (api.Fault{}) {
		t.Errorf("Check(%d) of %s = %v", version, shown(f), wrong)
	}
	s, wrong := f.Print(version)
	if want := written(version, f); s != want || wrong != (api.Fault{}) {
		t.Errorf("Print(%d) of %s = %.99q, %v; not %.99q", version, shown(f), s, wrong, want)
	}
	f.At = 7
	parses(t, version, s+"\x00A", 7, false, reading{frame: f, ok: true, read: len(s)})
	f.At = 0
	parses(t, version, s, 0, f.Format&2 != 0, reading{frame: f, ok: true, read: len(s)})
}

// refuses holds that a frame may not be.
func refuses(t *testing.T, version int, f frame.Frame) {
	t.Helper()
	want := api.Fault{Errno: api.ErrArg}
	if wrong := f.Check(version); wrong != want {
		t.Errorf("Check(%d) of %s = %v, not %v", version, shown(f), wrong, want)
	}
	if s, wrong := f.Print(version); s != "" || wrong != want {
		t.Errorf("Print(%d) of %s = %.99q, %v, not %v", version, shown(f), s, wrong, want)
	}
}
