package wide_test

import (
	"strings"
	"testing"

	"diacritic/api"
	"diacritic/point"
	"diacritic/wide"
)

// orders are the two orders of a unit's bytes.
var orders = []bool{true, false}

func undecodable(at int) api.Fault { return api.Fault{Errno: api.ErrUndecodable, At: at} }

// laid are units as bytes, reckoned without the program.
func laid(big bool, units ...int) string {
	var b []byte
	for _, u := range units {
		if big {
			b = append(b, byte(u/256), byte(u%256))
		} else {
			b = append(b, byte(u%256), byte(u/256))
		}
	}
	return string(b)
}

// unitsOf are a sign's units, as the chapter tells them.
func unitsOf(p int) []int {
	if p < 0x10000 {
		return []int{p}
	}
	return []int{0xD800 + (p-0x10000)/0x400, 0xDC00 + (p-0x10000)%0x400}
}

// allSigns are all signs' numbers, in order.
func allSigns() []rune {
	var all []rune
	for p := rune(0); p <= 0x10FFFF; p++ {
		if p < 0xD800 || p > 0xDFFF {
			all = append(all, p)
		}
	}
	return all
}

// decodes holds what Decode answers against what it should.
func decodes(t *testing.T, b string, big bool, want string, f api.Fault) {
	t.Helper()
	if got, wrong := wide.Decode(b, big); got != want || wrong != f {
		t.Errorf("Decode(%x, %v) = %x, %v; not %x, %v", b, big, got, wrong, want, f)
	}
}

// encodes holds what Encode answers against what it should.
func encodes(t *testing.T, s string, big bool, want string, f api.Fault) {
	t.Helper()
	if got, wrong := wide.Encode(s, big); got != want || wrong != f {
		t.Errorf("Encode(%x, %v) = %x, %v; not %x, %v", s, big, got, wrong, want, f)
	}
}

// marked holds what Marked answers against what it should.
func marked(t *testing.T, b, want string, f api.Fault) {
	t.Helper()
	if got, wrong := wide.Marked(b); got != want || wrong != f {
		t.Errorf("Marked(%x) = %x, %v; not %x, %v", b, got, wrong, want, f)
	}
}

// P3.1, P3.3: each sign alone, there and back.
func TestEachSign(t *testing.T) {
	for _, p := range allSigns() {
		s := string(p)
		for _, big := range orders {
			units := laid(big, unitsOf(int(p))...)
			encodes(t, s, big, units, api.Fault{})
			decodes(t, units, big, s, api.Fault{})
			if t.Failed() {
				return
			}
		}
	}
}

// P3.1, P3.3: all signs, one behind the other.
func TestAllSigns(t *testing.T) {
	all := allSigns()
	s := string(all)
	for _, big := range orders {
		var units []int
		for _, p := range all {
			units = append(units, unitsOf(int(p))...)
		}
		want := laid(big, units...)
		if got, f := wide.Encode(s, big); got != want || f.Bad() {
			t.Error("Encode of all signs", big, len(got), f)
		}
		if got, f := wide.Decode(want, big); got != s || f.Bad() {
			t.Error("Decode of all signs", big, len(got), f)
		}
	}
}

// P3.1: ordinary texts, the chapter's examples among them.
func TestTexts(t *testing.T) {
	for _, c := range []struct{ s, big, little string }{
		{"", "", ""},
		{"\x00", "\x00\x00", "\x00\x00"},
		{"a", "\x00a", "a\x00"},
		{"\U0001F600", "\xd8\x3d\xde\x00", "\x3d\xd8\x00\xde"},
		{"a\u00e9\uac00", "\x00a\x00\xe9\xac\x00", "a\x00\xe9\x00\x00\xac"},
		{"\ud7ff\ue000\uffff", "\xd7\xff\xe0\x00\xff\xff", "\xff\xd7\x00\xe0\xff\xff"},
		{"\U00010000\U0010FFFF", "\xd8\x00\xdc\x00\xdb\xff\xdf\xff", "\x00\xd8\x00\xdc\xff\xdb\xff\xdf"},
		{"\U000103FF\U00010400", "\xd8\x00\xdf\xff\xd8\x01\xdc\x00", "\x00\xd8\xff\xdf\x01\xd8\x00\xdc"},
		{"\ufeffa", "\xfe\xff\x00a", "\xff\xfea\x00"}, // here it is a sign like others
		{"\ufffe", "\xff\xfe", "\xfe\xff"},
		{"\ufffd", "\xff\xfd", "\xfd\xff"},
		{"e\u0301\r\n", "\x00e\x03\x01\x00\r\x00\n", "e\x00\x01\x03\r\x00\n\x00"},
	} {
		encodes(t, c.s, true, c.big, api.Fault{})
		encodes(t, c.s, false, c.little, api.Fault{})
		decodes(t, c.big, true, c.s, api.Fault{})
		decodes(t, c.little, false, c.s, api.Fault{})
	}
}

// aheads are texts of whole signs, behind which something may go wrong.
var aheads = []string{"", "a", "\uffff", "\U0001F600", "a\U0010FFFF\uac00"}

// P3.1: each unit that begins no sign's units, with whatever stands behind it.
func TestLoneHalves(t *testing.T) {
	for _, big := range orders {
		for _, ahead := range aheads {
			units, _ := wide.Encode(ahead, big)
			for u := 0xD800; u <= 0xDFFF; u++ {
				for _, behind := range []string{
					"", "\x00", "a", "\xdc", "\xdf", laid(big, 'a'), laid(big, 0xD7FF), laid(big, 0xD800), laid(big, 0xDBFF), laid(big, 0xE000),
					laid(big, 0xD800, 0xDC00), laid(big, 'a', 0xDC00), laid(big, 0xFFFF) + "\x00",
				} {
					decodes(t, units+laid(big, u)+behind, big, "", undecodable(len(units)))
				}
				for _, low := range []int{0xDC00, 0xDFFF} {
					if u >= 0xDC00 {
						decodes(t, units+laid(big, u, low), big, "", undecodable(len(units)))
					}
				}
				if t.Failed() {
					return
				}
			}
		}
	}
}

// P3.1: which units make a sign together: all numbers behind the first's edges, all numbers ahead of the second's.
func TestPairs(t *testing.T) {
	for _, big := range orders {
		for u := range 0x10000 {
			for _, v := range []int{0, 'a', 0xD7FF, 0xD800, 0xDBFF, 0xDC00, 0xDFFF, 0xE000, 0xFFFF} {
				pairOf(t, big, u, v)
				pairOf(t, big, v, u)
			}
			if t.Failed() {
				return
			}
		}
	}
}

// pairOf holds what Decode makes of two units against what the chapter tells.
func pairOf(t *testing.T, big bool, u, v int) {
	t.Helper()
	half := func(n int) bool { return n >= 0xD800 && n <= 0xDFFF }
	b := laid(big, u, v)
	switch {
	case u >= 0xD800 && u <= 0xDBFF && v >= 0xDC00 && v <= 0xDFFF:
		decodes(t, b, big, string(rune(0x10000+(u-0xD800)*0x400+v-0xDC00)), api.Fault{})
	case half(u):
		decodes(t, b, big, "", undecodable(0))
	case half(v):
		decodes(t, b, big, "", undecodable(2))
	default:
		decodes(t, b, big, string([]rune{rune(u), rune(v)}), api.Fault{})
	}
}

// P3.1: where a byte alone is left behind whole signs, and where a sign isn't whole.
func TestCutUnits(t *testing.T) {
	for _, big := range orders {
		for _, ahead := range aheads {
			units, _ := wide.Encode(ahead, big)
			for b := range 256 {
				decodes(t, units+string([]byte{byte(b)}), big, "", undecodable(len(units)))
			}
		}
		b, _ := wide.Encode("a\U0001F600b", big)
		for n, at := range []int{-1, 0, -1, 2, 2, 2, -1, 6, -1} {
			f := undecodable(at)
			if at < 0 {
				f = api.Fault{}
			}
			want := "a\U0001F600b"[:[]int{0, 0, 1, 0, 0, 0, 5, 0, 6}[n]]
			decodes(t, b[:n], big, want, f)
		}
	}
	decodes(t, "\xd8\x00\x00\x41", true, "", undecodable(0)) // the chapter's second example
	decodes(t, "\x00\x41\x00", true, "", undecodable(2))
}

// P3.1: the first place counts, not a later one.
func TestFirstFault(t *testing.T) {
	decodes(t, "\x00a\xdc\x00\xd8\x00\x00", true, "", undecodable(2))
	decodes(t, "\x00a\xd8\x00\xd8\x00\xdc\x00\x00", true, "", undecodable(2))
	decodes(t, "a\x00\x00\xdcb", false, "", undecodable(2))
	decodes(t, "\xd8\x3d\xde\x00\xde\x00\xd8\x3d", true, "", undecodable(4))
}

// P3.1: texts that aren't made of signs have no units: layer 2's fault.
func TestEncodeFaults(t *testing.T) {
	for _, bad := range []string{
		"\x80", "\xff", "\xc3", "\xc3a", "\xc0\x80", "\xe0\x80\x80", "\xed\xa0\x80", "\xed\xbf\xbf", "\xed\xa0\xbd\xed\xb8\x80", "\xf4\x90\x80\x80", "\xf0\x9f\x98",
	} {
		for _, ahead := range aheads {
			for _, behind := range []string{"", "a", "\xff"} {
				s := ahead + bad + behind
				for _, big := range orders {
					encodes(t, s, big, "", undecodable(len(ahead)))
				}
				if got, f := wide.WithMark(s); got != "" || f != undecodable(len(ahead)) { // P3.2
					t.Errorf("WithMark(%x) = %x, %v", s, got, f)
				}
			}
		}
	}
}

// P3.2: each two bytes, and fewer or more.
func TestMark(t *testing.T) {
	holds := func(b string, big, either bool) {
		t.Helper()
		if gotBig, gotAny := wide.Mark(b); gotBig != big || gotAny != either {
			t.Errorf("Mark(%x) = %v, %v", b, gotBig, gotAny)
		}
	}
	for n := range 0x10000 {
		for _, behind := range []string{"", "\x00", "a\x00", "\xfe\xff", "\xff\xfe\xd8"} {
			holds(laid(true, n)+behind, n == 0xFEFF, n == 0xFEFF || n == 0xFFFE)
		}
	}
	for n := range 256 {
		holds(string([]byte{byte(n)}), false, false)
	}
	for _, b := range []string{"", "a\xfe\xff", "a\xff\xfe", "\x00\x00\xfe\xff", "\xef\xbb\xbf", "\xfe\xfe\xff", "\xff\xff\xfe"} {
		holds(b, false, false)
	}
}

// P3.2: what stands behind a mark, and where it goes wrong.
func TestMarked(t *testing.T) {
	for _, c := range []struct {
		b, want string
		f       api.Fault
	}{
		{"", "", api.Fault{}},
		{"\xfe\xff", "", api.Fault{}},
		{"\xff\xfe", "", api.Fault{}},
		{"\xfe\xff\x00a", "a", api.Fault{}},
		{"\xff\xfea\x00", "a", api.Fault{}},
		{"\xfe\xffa\x00", "\u6100", api.Fault{}},
		{"\xff\xfe\x00a", "\u6100", api.Fault{}},
		{"\xfe\xff\xd8\x3d\xde\x00\x00b", "\U0001F600b", api.Fault{}},
		{"\xff\xfe\x3d\xd8\x00\xdeb\x00", "\U0001F600b", api.Fault{}},
		{"\xfe\xff\xfe\xff", "\ufeff", api.Fault{}}, // only the first one is a mark
		{"\xff\xfe\xff\xfe\x00\x00", "\ufeff\x00", api.Fault{}},
		{"\xfe\xff\xff\xfe", "\ufffe", api.Fault{}},
		{"\xff\xfe\xfe\xff", "\ufffe", api.Fault{}},
		{"\x00", "", undecodable(0)},
		{"\xfe", "", undecodable(0)},
		{"\xff", "", undecodable(0)},
		{"\x00a", "", undecodable(0)},
		{"a\x00", "", undecodable(0)},
		{"\x00\x00\xfe\xff", "", undecodable(0)},
		{"\x00a\xdc\x00", "", undecodable(0)},
		{"\xfe\xfe\x00a", "", undecodable(0)},
		{"\xff\xff\x00a", "", undecodable(0)},
		{"\xef\xbb\xbfa", "", undecodable(0)},
		{"\xfe\xff\x00", "", undecodable(2)},
		{"\xff\xfea", "", undecodable(2)},
		{"\xfe\xff\xd8\x00\x00\x41", "", undecodable(2)},
		{"\xff\xfe\x00\xd8\x00", "", undecodable(2)},
		{"\xfe\xff\x00a\xdc\x00", "", undecodable(4)},
		{"\xff\xfea\x00\x00\xdc", "", undecodable(4)},
		{"\xff\xfea\x00b", "", undecodable(4)},
		{"\xfe\xff\xd8\x3d\xde\x00\xd8\x00", "", undecodable(6)},
	} {
		marked(t, c.b, c.want, c.f)
	}
}

// P3.2: a little mark, and little units; read again.
func TestWithMark(t *testing.T) {
	for s, want := range map[string]string{
		"":                 "\xff\xfe",
		"a":                "\xff\xfea\x00",
		"\u00e9\u0301":     "\xff\xfe\xe9\x00\x01\x03",
		"\U0001F600":       "\xff\xfe\x3d\xd8\x00\xde",
		"\ufeff":           "\xff\xfe\xff\xfe", // a text's own first sign isn't taken for the mark
		"\ufeffa":          "\xff\xfe\xff\xfea\x00",
		"\ufffe\U00010000": "\xff\xfe\xfe\xff\x00\xd8\x00\xdc",
	} {
		got, f := wide.WithMark(s)
		if got != want || f != (api.Fault{}) {
			t.Errorf("WithMark(%x) = %x, %v", s, got, f)
		}
		marked(t, got, s, api.Fault{})
	}
}

// told are the signs in units, found from the signs' own units, and the first place without any (below 0: there is none).
func told(b string, big bool) (string, int) {
	var out []rune
	at := 0
	for at < len(b) {
		p, n := signAt(b[at:], big)
		if n == 0 {
			return "", at
		}
		out, at = append(out, p), at+n
	}
	return string(out), -1
}

// signAt is the sign whose units stand ahead, and how many bytes they are; 0 of none.
func signAt(b string, big bool) (rune, int) {
	for _, n := range []int{2, 4} {
		if len(b) < n {
			continue
		}
		for _, p := range someSigns() {
			if b[:n] == laid(big, unitsOf(int(p))...) {
				return p, n
			}
		}
	}
	return 0, 0
}

// someSigns are all signs whose units' bytes are some of the few of TestShortBytes.
func someSigns() []rune {
	few := []int{0x00, 0xD8, 0xDB, 0xDC, 0xFF}
	var all []rune
	for _, h := range few {
		for _, l := range few {
			if h != 0xD8 && h != 0xDB && h != 0xDC {
				all = append(all, rune(h<<8+l))
			}
		}
	}
	for _, u := range []int{0xD8, 0xDB} {
		for _, l := range few {
			for _, m := range few {
				all = append(all, rune(0x10000+((u<<8+l)-0xD800)*0x400+m))
			}
		}
	}
	return all
}

// P3.1, P3.2, P3.3: all rows of up to six of the bytes that matter.
func TestShortBytes(t *testing.T) {
	rows, last := []string{""}, []string{""}
	for range 6 {
		var next []string
		for _, s := range last {
			for _, b := range []byte{0x00, 0xD8, 0xDB, 0xDC, 0xFF} {
				next = append(next, s+string([]byte{b}))
			}
		}
		rows, last = append(rows, next...), next
	}
	for _, b := range rows {
		for i, mark := range []string{"\xfe\xff", "\xff\xfe"} {
			big := i == 0
			want, at := told(b, big)
			f, behind := api.Fault{}, api.Fault{}
			if at >= 0 {
				f, behind = undecodable(at), undecodable(at+2)
			}
			decodes(t, b, big, want, f)
			marked(t, mark+b, want, behind)
			if at < 0 {
				encodes(t, want, big, b, api.Fault{})
			}
		}
		if t.Failed() {
			return
		}
	}
}

// P3.3: longer texts there and back, and what is decoded is a text of signs.
func TestLongTexts(t *testing.T) {
	for _, s := range []string{strings.Repeat("a", 10000), strings.Repeat("\U0001F600\uac00\u00e9", 5000), strings.Repeat("\ufeff", 9999)} {
		for _, big := range orders {
			b, f := wide.Encode(s, big)
			if f.Bad() {
				t.Error(f)
			}
			decodes(t, b, big, s, api.Fault{})
			decodes(t, b+laid(big, 0xDC00), big, "", undecodable(len(b)))
			if back, _ := wide.Decode(b, big); !point.Valid(back) {
				t.Error("no text of signs")
			}
		}
	}
}
