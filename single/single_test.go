package single_test

import (
	"slices"
	"strconv"
	"strings"
	"testing"

	"diacritic/api"
	"diacritic/point"
	"diacritic/run"
	"diacritic/single"
)

// koi8r are KOI8-R's upper bytes, each line's first byte ahead.
const koi8r = `
80: 2500 2502 250C 2510 2514 2518 251C 2524 252C 2534 253C 2580 2584 2588 258C 2590
90: 2591 2592 2593 2320 25A0 2219 221A 2248 2264 2265 00A0 2321 00B0 00B2 00B7 00F7
A0: 2550 2551 2552 0451 2553 2554 2555 2556 2557 2558 2559 255A 255B 255C 255D 255E
B0: 255F 2560 2561 0401 2562 2563 2564 2565 2566 2567 2568 2569 256A 256B 256C 00A9
C0: 044E 0430 0431 0446 0434 0435 0444 0433 0445 0438 0439 043A 043B 043C 043D 043E
D0: 043F 044F 0440 0441 0442 0443 0436 0432 044C 044B 0437 0448 044D 0449 0447 044A
E0: 042E 0410 0411 0426 0414 0415 0424 0413 0425 0418 0419 041A 041B 041C 041D 041E
F0: 041F 042F 0420 0421 0422 0423 0416 0412 042C 042B 0417 0428 042D 0429 0427 042A
`

// koi8u is where KOI8-U is another one.
const koi8u = `
A4: 0454
A6: 0456
A7: 0457
AD: 0491
B4: 0404
B6: 0406
B7: 0407
BD: 0490
`

// cp866 are CP866's upper bytes, but for its letters in order.
const cp866 = `
B0: 2591 2592 2593 2502 2524 2561 2562 2556 2555 2563 2551 2557 255D 255C 255B 2510
C0: 2514 2534 252C 251C 2500 253C 255E 255F 255A 2554 2569 2566 2560 2550 256C 2567
D0: 2568 2564 2565 2559 2558 2552 2553 256B 256A 2518 250C 2588 2584 258C 2590 2580
F0: 0401 0451 0404 0454 0407 0457 040E 045E 00B0 2219 00B7 221A 2116 00A4 25A0 00A0
`

// four are the charsets of one byte a sign.
var four = []api.Charset{api.Latin1, api.KOI8R, api.KOI8U, api.CP866}

// number is a number in base sixteen.
func number(t *testing.T, s string) int {
	t.Helper()
	n, err := strconv.ParseInt(s, 16, 32)
	if err != nil {
		t.Fatal(err)
	}
	return int(n)
}

// lay lays the signs of some lines over what is told already.
func lay(t *testing.T, signs *[256]rune, lines string) {
	t.Helper()
	for line := range strings.Lines(strings.TrimSpace(lines)) {
		first, rest, _ := strings.Cut(strings.TrimSpace(line), ": ")
		for i, s := range strings.Split(rest, " ") {
			signs[number(t, first)+i] = rune(number(t, s))
		}
	}
}

// told are a charset's signs, as the chapter tells them.
func told(t *testing.T, c api.Charset) [256]rune {
	t.Helper()
	var signs [256]rune
	for i := range signs {
		signs[i] = rune(i)
	}
	switch c {
	case api.KOI8R, api.KOI8U:
		lay(t, &signs, koi8r)
		if c == api.KOI8U {
			lay(t, &signs, koi8u)
		}
	case api.CP866:
		for i := range 0x30 {
			signs[0x80+i] = rune(0x410 + i)
		}
		for i := range 0x10 {
			signs[0xE0+i] = rune(0x440 + i)
		}
		lay(t, &signs, cp866)
	}
	return signs
}

// of is a charset that must be there.
func of(t *testing.T, c api.Charset) single.Set {
	t.Helper()
	s, ok := single.Of(c)
	if !ok || s.Charset != c {
		t.Fatalf("Of(%d): %d, %v", c, s.Charset, ok)
	}
	return s
}

// decodes holds what Decode answers against what it should.
func decodes(t *testing.T, s single.Set, b, want string, f api.Fault) {
	t.Helper()
	if got, wrong := s.Decode(b); got != want || wrong != f {
		t.Errorf("Decode(%x) of %d = %+q, %v; not %+q, %v", b, s.Charset, got, wrong, want, f)
	}
}

// encodes holds what Encode answers against what it should.
func encodes(t *testing.T, s single.Set, text, want string, f api.Fault) {
	t.Helper()
	if got, wrong := s.Encode(text); got != want || wrong != f {
		t.Errorf("Encode(%+q) in %d = %x, %v; not %x, %v", text, s.Charset, got, wrong, want, f)
	}
}

func unencodable(at int) api.Fault { return api.Fault{Errno: api.ErrUnencodable, At: at} }

func undecodable(at int) api.Fault { return api.Fault{Errno: api.ErrUndecodable, At: at} }

// P5.1: each byte's sign, and each sign's byte, as a table tells them.
func TestTables(t *testing.T) {
	for _, c := range four {
		s, signs := of(t, c), told(t, c)
		codes := map[rune]int{}
		var pairs []run.Pair
		for code, p := range signs {
			pairs = append(pairs, run.Pair{Code: code, Point: p})
			codes[p] = code
			if got, ok := s.Forward(code); got != p || !ok {
				t.Errorf("%d: Forward(%x) = %x, %v; not %x", c, code, got, ok, p)
			}
		}
		if len(codes) != 256 { // no sign has two bytes (P5.3)
			t.Errorf("%d: %d signs", c, len(codes))
		}
		if got := s.Pairs(); !slices.Equal(got, pairs) || s.Size() != 256 || s.Table.Size() != 256 {
			t.Errorf("%d: Pairs %v, Size %d", c, got, s.Size())
		}
		for p := rune(-3); p < 0x110003; p++ {
			want, there := codes[p]
			if code, ok := s.Reverse(p); code != want || ok != there {
				t.Errorf("%d: Reverse(%x) = %x, %v; not %x, %v", c, p, code, ok, want, there)
			}
		}
		for _, code := range []int{-256, -1, 256, 257, 1 << 20} {
			if p, ok := s.Forward(code); p != 0 || ok {
				t.Errorf("%d: Forward(%x) = %x, %v", c, code, p, ok)
			}
		}
	}
}

// P5.1: a charset's calls of a table are a table's: the set lies over others.
func TestSetsOver(t *testing.T) {
	x := of(t, api.KOI8U).Over(of(t, api.CP866).Table)
	if x.Size() != 256 || !slices.Equal(x.Pairs(), of(t, api.KOI8U).Pairs()) {
		t.Error("KOI8-U over CP866", x.Size())
	}
	got := of(t, api.KOI8R).Pairs()
	clear(got)
	if p, ok := of(t, api.KOI8R).Forward(0xC1); p != 0x430 || !ok {
		t.Error("once more", p, ok)
	}
}

// P5.1: other numbers are none of the four.
func TestOthers(t *testing.T) {
	for c := api.Charset(-300); c <= 300; c++ {
		if _, ok := single.Of(c); ok != slices.Contains(four, c) {
			t.Errorf("Of(%d): %v", c, ok)
		}
	}
	for _, c := range []api.Charset{-1 << 63, -1 << 32, 1 << 32, 1<<32 + 1, 1<<63 - 1, api.CP949, api.UTF8, -1} {
		s, ok := single.Of(c)
		if ok || s.Charset != 0 || s.Size() != 0 || len(s.Pairs()) != 0 {
			t.Errorf("Of(%d): %d, %v, %d codes", c, s.Charset, ok, s.Size())
		}
		noCodes(t, s)
	}
}

// noCodes holds a set against a zero one.
func noCodes(t *testing.T, s single.Set) {
	t.Helper()
	decodes(t, s, "", "", api.Fault{})
	encodes(t, s, "", "", api.Fault{})
	for _, b := range []string{"\x00", "a", "ab", "\xff", "\xc3\xa9"} {
		decodes(t, s, b, "", undecodable(0))
	}
	for _, text := range []string{"\x00", "a", "\u00e9a", "\U0001F600"} {
		encodes(t, s, text, "", unencodable(0))
	}
	encodes(t, s, "a\xff", "", undecodable(1))
}

// P5.2: a zero set has no codes.
func TestZero(t *testing.T) { noCodes(t, single.Set{}) }

// R1: a set of other codes than the four's ends its calls too; its first byte that is no code is told by its place.
func TestOwnSet(t *testing.T) {
	x, f := run.New(run.List('a', "\u00e9"), run.Seq(1<<20-1, 'z', 1))
	s := single.Set{Table: x, Charset: -7}
	decodes(t, s, "aa", "\u00e9\u00e9", f)
	decodes(t, s, "aabb", "", undecodable(2))
	encodes(t, s, "\u00e9\u00e9", "aa", f)
	encodes(t, s, "\u00e9y", "", unencodable(2))
	s.Encode("z")
}

// P5.2, P5.3: each byte, and all of them in both directions, there and back.
func TestBytes(t *testing.T) {
	for _, c := range four {
		s, signs := of(t, c), told(t, c)
		var up []byte
		for code, p := range signs {
			b, text := string([]byte{byte(code)}), string(p)
			decodes(t, s, b, text, api.Fault{})
			encodes(t, s, text, b, api.Fault{})
			up = append(up, byte(code))
		}
		decodes(t, s, string(up), string(signs[:]), api.Fault{})
		encodes(t, s, string(signs[:]), string(up), api.Fault{})
		slices.Reverse(up)
		slices.Reverse(signs[:])
		decodes(t, s, string(up), string(signs[:]), api.Fault{})
		encodes(t, s, string(signs[:]), string(up), api.Fault{})
		decodes(t, s, "", "", api.Fault{})
		encodes(t, s, "", "", api.Fault{})
	}
}

// P5.3: all rows of two bytes, and a long one, there and back.
func TestThereAndBack(t *testing.T) {
	for _, c := range four {
		s := of(t, c)
		var long []byte
		for n := range 0x10000 {
			b := string([]byte{byte(n >> 8), byte(n)})
			long = append(long, b...)
			text, f := s.Decode(b)
			back, g := s.Encode(text)
			if f.Bad() || g.Bad() || back != b || point.Count(text) != 2 {
				t.Fatalf("%d: %x: %q, %v, %x, %v", c, b, text, f, back, g)
			}
		}
		text, f := s.Decode(string(long))
		if back, g := s.Encode(text); f.Bad() || g.Bad() || back != string(long) {
			t.Errorf("%d: a long row: %v, %v", c, f, g)
		}
	}
}

// P5.2: the chapter's examples, and ordinary texts.
func TestTexts(t *testing.T) {
	decodes(t, of(t, api.KOI8R), "\xc1\xc2", "\u0430\u0431", api.Fault{})
	decodes(t, of(t, api.CP866), "\x80\xa0\xe0", "\u0410\u0430\u0440", api.Fault{})
	decodes(t, of(t, api.KOI8U), "\xb4", "\u0404", api.Fault{})
	decodes(t, of(t, api.KOI8R), "\xb4", "\u2562", api.Fault{})
	encodes(t, of(t, api.Latin1), "\u0404", "", unencodable(0))
	decodes(t, of(t, api.Latin1), "caf\xe9 \x00\x80\xff", "caf\u00e9 \x00\u0080\u00ff", api.Fault{})
	encodes(t, of(t, api.KOI8U), "\u0490\u0491 \u0407", "\xbd\xad \xb7", api.Fault{})
	encodes(t, of(t, api.CP866), "\u0401\u2116\u00a0\r\n", "\xf0\xfc\xff\r\n", api.Fault{})
}

// P5.2: signs without a byte, at their place in the text, the first one alone.
func TestUnencodable(t *testing.T) {
	for _, c := range four {
		s, signs := of(t, c), told(t, c)
		for _, bad := range []rune{0x100, 0x2603, 0x42F0, 0xD7FF, 0xE000, 0xFFFD, 0xFFFF, 0x10000, 0x10430, 0x10FFFF} {
			for _, ahead := range []string{"", "a", "\x00\x7f", string(signs[0xB4]), string(signs[0x80:])} {
				for _, behind := range []string{"", "a", string(bad), "\u2604"} {
					encodes(t, s, ahead+string(bad)+behind, "", unencodable(len(ahead)))
				}
			}
		}
	}
	encodes(t, of(t, api.KOI8R), "\u0404", "", unencodable(0))
	encodes(t, of(t, api.KOI8U), "a\u0451\u2562", "", unencodable(3))
	encodes(t, of(t, api.CP866), "\u0430\u00e9", "", unencodable(2))
	encodes(t, of(t, api.KOI8R), "\u0080", "", unencodable(0)) // a byte's number isn't its sign's
}

// P5.2: what isn't made of signs, also where a sign without a byte stands ahead of it (R2).
func TestNoSigns(t *testing.T) {
	for _, c := range four {
		s := of(t, c)
		for _, bad := range []string{"\x80", "\xff", "\xc3", "\xc0\x80", "\xe0\x80\x80", "\xed\xa0\x80", "\xf4\x90\x80\x80", "\xf0\x9f\x98"} {
			for _, ahead := range []string{"", "a", "\u00a0", "\u2603", "\u2603\U0001F600a"} {
				for _, behind := range []string{"", "a", "\u2603", "\xff"} {
					encodes(t, s, ahead+bad+behind, "", undecodable(len(ahead)))
				}
			}
		}
	}
}
