package frame_test

import (
	"strings"
	"testing"

	"diacritic/api"
	"diacritic/frame"
	"diacritic/octet"
)

// whole is a frame that stands at a place and is read.
func whole(at int, id string, status, format, group byte, body string, read int) reading {
	return reading{frame: frame.Frame{Head: frame.Head{ID: id, Status: status, Format: format}, Group: group, Body: body, At: at}, ok: true, read: read}
}

// fails is a fault of malformed bytes.
func fails(at, read int) reading { return reading{fault: malformed(at), read: read} }

// P13.1: which bits say what, of all versions and all flags.
func TestHeads(t *testing.T) {
	for _, version := range versions {
		for format := range 256 {
			for _, status := range []byte{0, 0xFF, 0x40} {
				h := frame.Head{ID: "TIT2", Status: status, Format: byte(format)}
				is := says{h.Locked(version), h.Grouped(version), h.Measured(version), h.Spread(version)}
				if is != saysOf(version, byte(format)) {
					t.Errorf("version %d, format %x: %v", version, format, is)
				}
				f := frame.Frame{Head: h, Group: 1, Body: "a", At: 1}
				if (says{f.Locked(version), f.Grouped(version), f.Measured(version), f.Spread(version)}) != is {
					t.Errorf("version %d, format %x: the frame says otherwise", version, format)
				}
			}
		}
	}
	if frame.Unsynced != 2 {
		t.Error(frame.Unsynced)
	}
}

// P13.1: what single bits say, spelt out.
func TestHeadsTold(t *testing.T) {
	for _, c := range []struct {
		version int
		format  byte
		want    says
	}{
		{2, 0xFF, says{}},
		{3, 0x80, says{locked: true}}, {3, 0x40, says{locked: true}}, {3, 0x20, says{grouped: true}}, {3, 0x1F, says{}},
		{3, 0xA0, says{locked: true}}, {3, 0x60, says{locked: true}}, {3, 0x3F, says{grouped: true}}, {3, 0xFF, says{locked: true}},
		{4, 0x40, says{grouped: true}}, {4, 0x08, says{locked: true}}, {4, 0x04, says{locked: true}},
		{4, 0x02, says{spread: true}}, {4, 0x01, says{measured: true}}, {4, 0xB0, says{}},
		{4, 0x43, says{grouped: true, spread: true, measured: true}}, {4, 0x4F, says{locked: true}}, {4, 0x47, says{locked: true}}, {4, 0x4B, says{locked: true}},
		{4, 0xF3, says{grouped: true, spread: true, measured: true}}, {1, 0xFF, says{}}, {5, 0xFF, says{}},
	} {
		h := frame.Head{Format: c.format}
		if is := (says{h.Locked(c.version), h.Grouped(c.version), h.Measured(c.version), h.Spread(c.version)}); is != c.want {
			t.Errorf("version %d, format %x: %v, not %v", c.version, c.format, is, c.want)
		}
	}
}

// P13.1: how many signs names have.
func TestLetters(t *testing.T) {
	for _, version := range versions {
		want := map[int]int{2: 3, 3: 4, 4: 4}[version]
		if n := frame.Letters(version); n != want {
			t.Errorf("Letters(%d) = %d, not %d", version, n, want)
		}
	}
}

// P13.1: names, with each byte at each of their places, and such as are too short or too long.
func TestNamed(t *testing.T) {
	texts := []string{"", "T", "TT", "TT2", "TIT2", "TIT22", "TTT", "0000", "000", "9ZA0", "AZ9", "tt2", "TIT ", " TT", "T\u00c92", "\u00c9\u00c9", "TTTTTTTT", strings.Repeat("T", 1000)}
	for _, ground := range []string{"TT2", "TIT2", "TIT22"} {
		for at := range len(ground) {
			for x := range 256 {
				b := []byte(ground)
				b[at] = byte(x)
				texts = append(texts, string(b))
			}
		}
	}
	for _, version := range versions {
		for _, id := range texts {
			if is := frame.Named(version, id); is != isName(version, id) {
				t.Errorf("Named(%d, %q) = %v", version, id, is)
			}
		}
	}
	for _, version := range known {
		if !frame.Named(version, "TIT2"[:nameSize(version)]) || frame.Named(version, "") {
			t.Error(version)
		}
	}
}

// P13.2: the chapter's examples, and some more frames that are spelt out.
func TestParseTold(t *testing.T) {
	parses(t, 3, "TIT2\x00\x00\x00\x01\x00\x00a", 0, false, whole(0, "TIT2", 0, 0, 0, "a", 11))
	parses(t, 4, "TIT2\x00\x00\x00\x08\x00\x43\x05\x00\x00\x00\x02\xff\x00\xe0", 0, false, whole(0, "TIT2", 0, 0x43, 5, "\xff\xe0", 18))
	parses(t, 2, "TT2\x00\x00\x02abc", 10, false, whole(10, "TT2", 0, 0, 0, "ab", 8))
	parses(t, 2, "TT2\x00\x00\x02\xff\x00", 10, true, whole(10, "TT2", 0, 0, 0, "\xff\x00", 8))
	parses(t, 3, "A0Z9\x00\x00\x00\x02\x12\x22\xff\x00", 5, true, whole(5, "A0Z9", 0x12, 0x22, 0xFF, "\x00", 12))
	parses(t, 3, "TIT2\x00\x00\x00\x02\xff\x03\xff\x00", 0, true, whole(0, "TIT2", 0xFF, 3, 0, "\xff\x00", 12))
	parses(t, 4, "TIT2\x00\x00\x00\x03\x00\x00\xff\x00a", 0, false, whole(0, "TIT2", 0, 0, 0, "\xff\x00a", 13))
	parses(t, 4, "TIT2\x00\x00\x00\x03\x00\x00\xff\x00a", 0, true, whole(0, "TIT2", 0, 2, 0, "\xffa", 13))
	parses(t, 4, "TIT2\x00\x00\x00\x03\x00\x02\xff\x00a", 0, false, whole(0, "TIT2", 0, 2, 0, "\xffa", 13))
	parses(t, 4, "TIT2\x00\x00\x00\x03\x00\x08\xff\x00a", 0, true, whole(0, "TIT2", 0, 10, 0, "\xff\x00a", 13))
	parses(t, 4, "TIT2\x00\x00\x00\x03\x00\x47\xff\x00a", 0, false, whole(0, "TIT2", 0, 0x47, 0, "\xff\x00a", 13))
	parses(t, 4, "TIT2\x00\x00\x00\x03\x00\x40\xff\x00\x00", 0, true, whole(0, "TIT2", 0, 0x42, 0xFF, "\x00\x00", 13))
	parses(t, 3, "TIT2\x00\x00\x00\x00\x00\x00", 0, false, whole(0, "TIT2", 0, 0, 0, "", 10))
	parses(t, 4, "TIT2\x00\x00\x00\x01\x00\x40\x07", 0, false, whole(0, "TIT2", 0, 0x40, 7, "", 11))
	parses(t, 4, "TIT2\x00\x00\x00\x04\x00\x01\x00\x00\x00\x00", 0, false, whole(0, "TIT2", 0, 1, 0, "", 14))
	parses(t, 2, "TT2\x00\x00\x00", 0, true, whole(0, "TT2", 0, 0, 0, "", 6))
}

// P13.2: the faults, spelt out, of a reader at 100.
func TestFaultsTold(t *testing.T) {
	for _, c := range []struct {
		version int
		b       string
		at      int
		read    int
	}{
		{2, "T", 101, 0}, {2, "t", 101, 0}, {2, "TT", 102, 0}, {3, "TIT", 103, 0}, {4, "tit", 103, 0}, {4, "T\x00", 102, 0},
		{2, "tT2", 100, 3}, {2, "Tt2", 101, 3}, {2, "TT\x00", 102, 3}, {3, "T  2", 101, 4}, {4, "TITt", 103, 4}, {4, "TIT\xff\xff\xff\xff\xff", 103, 4},
		{2, "TT2", 103, 3}, {2, "TT2\x00\x00", 105, 3}, {3, "TIT2", 104, 4}, {3, "TIT2\x00\x00\x00", 107, 4}, {4, "TIT2\x80\x00\x00", 107, 4},
		{4, "TIT2\x80\x00\x00\x00", 104, 8}, {4, "TIT2\x00\xff\x80\x00", 105, 8}, {4, "TIT2\x00\x00\x80\x00\x00\x00", 106, 8}, {4, "TIT2\x00\x00\x00\x81\x00\x00a", 107, 8},
		{3, "TIT2\x00\x00\x00\x00", 108, 8}, {3, "TIT2\x00\x00\x00\x00\x00", 109, 8}, {4, "TIT2\x00\x00\x00\x00\x40", 109, 8},
		{2, "TT2\x00\x00\x01", 106, 6}, {2, "TT2\xff\xff\xffaaa", 109, 6}, {2, "TT2\x01\x00\x00aaa", 109, 6}, {2, "TT2\x00\x01\x00aaa", 109, 6},
		{3, "TIT2\x00\x00\x00\x02\x00\x00a", 111, 10}, {3, "TIT2\xff\xff\xff\xff\x00\x00a", 111, 10}, {3, "TIT2\x80\x00\x00\x00\x00\x20a", 111, 10},
		{4, "TIT2\x7f\x7f\x7f\x7f\x00\x43a", 111, 10}, {4, "TIT2\x00\x00\x01\x00\x00\x00a", 111, 10},
		{3, "TIT2\x00\x00\x00\x00\x00\x20abc", 110, 10}, {4, "TIT2\x00\x00\x00\x00\x00\x40abc", 110, 10}, {4, "TIT2\x00\x00\x00\x00\x00\x41\x00\x00\x00\x00\x00", 110, 10},
		{4, "TIT2\x00\x00\x00\x03\x00\x01\x00\x00\x00\x00\x00", 113, 13}, {4, "TIT2\x00\x00\x00\x04\x00\x41\x00\x00\x00\x00\x00", 114, 14}, {4, "TIT2\x00\x00\x00\x03\x00\x01\x80\x00\x00\x00\x00", 113, 13},
		{4, "TIT2\x00\x00\x00\x04\x00\x01\x80\x00\x00\x00", 110, 14}, {4, "TIT2\x00\x00\x00\x05\x00\x41\xff\x00\x00\x80\xff", 113, 15}, {4, "TIT2\x00\x00\x00\x04\x00\x01\x00\x00\x00\xff", 113, 14},
		{4, "TIT2\x00\x00\x00\x05\x00\x01\x00\x00\x00\x00a", 110, 15}, {4, "TIT2\x00\x00\x00\x05\x00\x01\x00\x00\x00\x02a", 110, 15}, {4, "TIT2\x00\x00\x00\x06\x00\x41\x05\x00\x00\x00\x02a", 111, 16},
		{4, "TIT2\x00\x00\x00\x07\x00\x03\x00\x00\x00\x03\xff\x00a", 110, 17}, {4, "TIT2\x00\x00\x00\x07\x00\x01\x00\x00\x00\x02\xff\x00a", 110, 17}, {4, "TIT2\x00\x00\x00\x05\x00\x01\x00\x01\x00\x01a", 110, 15},
	} {
		parses(t, c.version, c.b, 100, false, fails(c.at, c.read))
	}
	parses(t, 4, "TIT2\x00\x00\x00\x07\x00\x01\x00\x00\x00\x03\xff\x00a", 100, true, fails(110, 17))
	parses(t, 4, "TIT2\x00\x00\x00\x07\x00\x01\x00\x00\x00\x03\xff\x00a", 100, false, whole(100, "TIT2", 0, 1, 0, "\xff\x00a", 17))
	parses(t, 4, "TIT2\x00\x00\x00\x07\x00\x01\x00\x00\x00\x02\xff\x00a", 100, true, whole(100, "TIT2", 0, 3, 0, "\xffa", 17))
}

// P13.2: no frame is read of nothing, of noughts, of versions that are none, and of readers that are nil or have a fault.
func TestParseNone(t *testing.T) {
	good := "TIT2\x00\x00\x00\x01\x00\x00a"
	for _, version := range versions {
		for _, spread := range []bool{false, true} {
			for _, b := range []string{"", "\x00", "\x00TIT2\x00\x00\x00\x01\x00\x00a", strings.Repeat("\x00", 100), "\x00\xff"} {
				parses(t, version, b, 9, spread, reading{})
			}
			if f, ok := frame.Parse(version, nil, spread); ok || f != (frame.Frame{}) {
				t.Errorf("Parse(%d) of nil = %s, %v", version, shown(f), ok)
			}
			for _, e := range []api.Errno{api.ErrMalformed, api.ErrNone, -5} {
				r := octet.Inner("ab"+good, 30)
				r.Take(2)
				r.Fail(e, 3)
				f, ok := frame.Parse(version, r, spread)
				if ok || f != (frame.Frame{}) || r.Fault() != (api.Fault{Errno: e, At: 3}) || r.At() != 32 {
					t.Errorf("Parse(%d) behind a fault = %s, %v, %v at %d", version, shown(f), ok, r.Fault(), r.At())
				}
			}
			if !isVersion(version) {
				parses(t, version, good, 9, spread, reading{})
				parses(t, version, "?", 9, spread, reading{})
			}
		}
	}
	if f, ok := frame.Parse(3, new(octet.In), false); ok || f != (frame.Frame{}) {
		t.Errorf("Parse of a zero reader = %s, %v", shown(f), ok)
	}
}

// P13.2: frames with each byte at each place of what stands ahead of the data.
func TestEachByte(t *testing.T) {
	heads := map[int][]string{
		2: {"TT2\x00\x00\x01", "TT2\x00\x00\x00"},
		3: {"TIT2\x00\x00\x00\x03\x00\x00", "TIT2\x00\x00\x00\x00\x00\x20", "TIT2\x00\x00\x00\x02\xff\x20"},
		4: {"TIT2\x00\x00\x00\x03\x00\x00", "TIT2\x00\x00\x00\x07\x00\x43", "TIT2\x00\x00\x00\x00\x00\x40"},
	}
	for _, version := range known {
		for _, head := range heads[version] {
			for at := range len(head) {
				for x := range 256 {
					b := []byte(head)
					b[at] = byte(x)
					for _, data := range []string{"", "a", "\x00\x00\x00\x00\x00\x00\x00", "\x01\x00\x00\x00\x01\xff\x00\xe0\x00", strings.Repeat("z", 300)} {
						goes(t, version, string(b)+data, 4, false)
						goes(t, version, string(b)+data, 0, true)
					}
				}
			}
		}
	}
}

// datas are data of frames, such as are measured rightly and wrongly among them.
func datas() []string {
	l := []string{"", "a", "\x00", "\xff", "\xff\x00", "abc", "\x00\x00\x00", "\x00\x00\x00\x00", "\x80\x00\x00\x00", "\x05\x80\x00\x00\x00", "\x00\x00\x00\x80", "\xff\xff\xff\xff\xff\xff", "abcdefgh"}
	for _, group := range []string{"", "\x00", "\x05", "\xff"} {
		for _, body := range []string{"", "a", "\xff", "\xff\x00", "\xff\x00\x00", "\xff\x00\xff\x00\xe0", "\x00\xff\xffA", strings.Repeat("\xff\x00", 70)} {
			for _, n := range []int{len(body), len(dropped(body)), len(body) + 1, 128 + len(body), 1<<28 - 1} {
				l = append(l, group+sevenOf(n)+body)
			}
		}
	}
	return l
}

// P13.2: all flags, with data of many kinds.
func TestEachFormat(t *testing.T) {
	for _, data := range datas() {
		for _, version := range []int{3, 4} {
			for format := range 256 {
				b := "TIT2" + sevenOf(len(data)) + "\x31" + string([]byte{byte(format)}) + data
				if version == 3 {
					b = "TIT2" + octet.Big(uint64(len(data)), 4) + b[8:]
				}
				for _, spread := range []bool{false, true} {
					goes(t, version, b, 0, spread)
					goes(t, version, b+"\x00\x00\x00\x00\x00\x00", 1000, spread)
				}
			}
		}
		goes(t, 2, "TT2"+octet.Big(uint64(len(data)), 3)+data+"z", 8, true)
	}
}

// P13.2: frames that end at each of their places, as the text does and as the size says.
func TestEachEnd(t *testing.T) {
	for _, data := range []string{"", "ab", "\x07\x00\x00\x00\x02ab", "\x00\x00\x00\x03\xff\x00\xe0\x00", "\x00\x00\x00\x02\xff\x00\xe0"} {
		for _, version := range known {
			for _, format := range []byte{0, 0x20, 0x40, 1, 2, 3, 0x41, 0x42, 0x43, 0x80, 0x08, 0x4F} {
				for size := range len(data) + 3 {
					b := "TIT2" + octet.Big(uint64(size), 4) + "\x00" + string([]byte{format}) + data
					if version == 2 {
						b = "TT2" + octet.Big(uint64(size), 3) + data
					}
					for n := range len(b) + 1 {
						goes(t, version, b[:n], 50, false)
						goes(t, version, b[:n], 0, true)
					}
				}
			}
		}
	}
}

// P13.2: frames one behind the other, up to noughts, to the end or to a fault.
func TestRow(t *testing.T) {
	one, two := "TIT2\x00\x00\x00\x01\x00\x00a", "TPE1\x00\x00\x00\x02\x00\x00bc"
	for _, c := range []struct {
		end   string
		fault api.Fault
		left  int
	}{
		{"", api.Fault{}, 0}, {"\x00\x00", api.Fault{}, 2}, {"?", malformed(63), 0}, {"TIT?\x00", malformed(65), 0},
	} {
		r := octet.Inner("xyz"+one+two+c.end, 36)
		r.Take(3)
		for _, want := range []frame.Frame{{Head: frame.Head{ID: "TIT2"}, Body: "a", At: 39}, {Head: frame.Head{ID: "TPE1"}, Body: "bc", At: 50}} {
			if f, ok := frame.Parse(3, r, false); f != want || !ok || r.Fault().Bad() {
				t.Errorf("behind %q: %s, %v, %v", c.end, shown(f), ok, r.Fault())
			}
		}
		for range 3 {
			if f, ok := frame.Parse(3, r, false); f != (frame.Frame{}) || ok || r.Fault() != c.fault || r.Left() != c.left {
				t.Errorf("at %q: %s, %v, %v, %d left", c.end, shown(f), ok, r.Fault(), r.Left())
			}
		}
	}
}

// P13.2: sizes of which each byte counts.
func TestLargeSizes(t *testing.T) {
	ground := strings.Repeat("\xffb\xff\x00", 1<<19)
	for _, n := range []int{127, 128, 129, 255, 256, 257, 0x3FFF, 0x4000, 0x4001, 0xFFFF, 0x10000, 0x1FFFFF} {
		for _, more := range []string{"", "\x00"} {
			b := ground[:n] + more
			goes(t, 2, "TT2"+octet.Big(uint64(n), 3)+b, 3, true)
			goes(t, 3, "TIT2"+octet.Big(uint64(n), 4)+"\x00\x20"+b, 3, true)
			goes(t, 4, "TIT2"+sevenOf(n)+"\x00\x00"+b, 3, false)
			goes(t, 4, "TIT2"+sevenOf(n)+"\x00\x00"+b, 3, true)
			goes(t, 4, "TIT2"+sevenOf(n+4)+"\x00\x01"+sevenOf(n)+b, 3, false)
			goes(t, 4, "TIT2"+sevenOf(n+4)+"\x00\x01"+sevenOf(len(dropped(ground[:n])))+b, 3, true)
		}
	}
	goes(t, 3, "TIT2\x01\x02\x03\x04\x00\x00"+strings.Repeat("z", 0x01020304)+"zz", 3, false)
	goes(t, 4, "TIT2\x09\x0a\x0b\x0c\x00\x00"+strings.Repeat("z", 9<<21+10<<14+11<<7+12)+"zz", 3, false)
}
