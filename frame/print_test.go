package frame_test

import (
	"strings"
	"testing"

	"diacritic/api"
	"diacritic/frame"
)

// of is a frame of such bytes.
func of(id string, status, format, group byte, body string) frame.Frame {
	return frame.Frame{Head: frame.Head{ID: id, Status: status, Format: format}, Group: group, Body: body}
}

// bodies are such as may be spread.
var bodies = []string{"", "a", "\x00", "\xff", "\xff\x00", "\xff\x00\x00", "\xff\xe0", "\xff\xdf", "\xff\xff\xff", "\xff\x01\xff", "a\xff\xfbb", strings.Repeat("\xff", 63), strings.Repeat("\xff", 64), strings.Repeat("a", 127), strings.Repeat("a", 128), strings.Repeat("b", 255), strings.Repeat("c", 256)}

// P13.3: frames' bytes, the chapter's examples among them.
func TestPrintTold(t *testing.T) {
	for _, c := range []struct {
		version int
		f       frame.Frame
		want    string
	}{
		{3, of("TIT2", 0, 0, 0, "a"), "TIT2\x00\x00\x00\x01\x00\x00a"},
		{4, of("TIT2", 0, 0x43, 5, "\xff\xe0"), "TIT2\x00\x00\x00\x08\x00\x43\x05\x00\x00\x00\x02\xff\x00\xe0"},
		{2, of("TT2", 0, 0, 0, "\xff\xe0"), "TT2\x00\x00\x02\xff\xe0"},
		{2, of("000", 0, 0, 0, ""), "000\x00\x00\x00"},
		{3, of("AZ09", 0xE0, 0x3F, 0, "\xff"), "AZ09\x00\x00\x00\x02\xe0\x3f\x00\xff"},
		{3, of("AZ09", 0, 0xA0, 0, "\xff"), "AZ09\x00\x00\x00\x01\x00\xa0\xff"},
		{4, of("AZ09", 0x70, 0x4F, 0, "\xff"), "AZ09\x00\x00\x00\x01\x70\x4f\xff"},
		{4, of("AZ09", 1, 2, 0, "\xff\x00\x00"), "AZ09\x00\x00\x00\x04\x01\x02\xff\x00\x00\x00"},
		{4, of("AZ09", 1, 1, 0, "\xff\x00"), "AZ09\x00\x00\x00\x06\x01\x01\x00\x00\x00\x02\xff\x00"},
		{4, of("AZ09", 1, 0x40, 0xFF, "\x00"), "AZ09\x00\x00\x00\x02\x01\x40\xff\x00"},
		{4, of("AZ09", 1, 0xB0, 0, "\xff"), "AZ09\x00\x00\x00\x01\x01\xb0\xff"},
	} {
		s, wrong := c.f.Print(c.version)
		if s != c.want || wrong.Bad() {
			t.Errorf("Print(%d) of %s = %q, %v; not %q", c.version, shown(c.f), s, wrong, c.want)
		}
		prints(t, c.version, c.f)
	}
}

// P13.3, P13.4: all flags with groups and bodies of many kinds; what has a group that isn't told, or flags in version 2, may not be.
func TestPrintEach(t *testing.T) {
	for _, version := range versions {
		id := "TIT2"
		if version == 2 {
			id = "TT2"
		}
		for format := range 256 {
			for _, status := range []byte{0, 1, 0x80, 0xFF} {
				for _, group := range []byte{0, 1, 5, 0x80, 0xFF} {
					for _, body := range bodies {
						f := of(id, status, byte(format), group, body)
						flagged := version == 2 && (status > 0 || format > 0)
						stray := group > 0 && !saysOf(version, byte(format)).grouped
						if isVersion(version) && !flagged && !stray {
							prints(t, version, f)
						} else {
							refuses(t, version, f)
						}
					}
				}
			}
		}
	}
}

// P13.3: At isn't looked at.
func TestPlaces(t *testing.T) {
	for _, at := range []int{-1, 1, 1 << 40, -1 << 62} {
		f := of("TIT2", 0, 0x40, 5, "a")
		want, _ := f.Print(4)
		f.At = at
		if s, wrong := f.Print(4); s != want || wrong.Bad() || f.Check(4).Bad() {
			t.Errorf("at %d: %q, %v", at, s, wrong)
		}
	}
}

// P13.3: names that may not be, in frames that may be else, and in such as are too large as well.
func TestNames(t *testing.T) {
	large := strings.Repeat("a", 1<<24)
	for _, version := range versions {
		for _, id := range []string{"", "T", "TT", "TT2", "TIT2", "TIT22", "tt2", "tit2", "TT\x00", "TIT\x00", "\x00TT", "TI-2", "TIT:", "@IT2", "TIT/", "[IT2", "\xff\xff\xff\xff"} {
			f := of(id, 0, 0, 0, "a")
			if isName(version, id) {
				prints(t, version, f)
				continue
			}
			refuses(t, version, f)
			f.Body = large
			refuses(t, version, f)
			refuses(t, version, frame.Frame{Head: frame.Head{ID: id}})
		}
		refuses(t, version, frame.Frame{})
	}
}

// P13.3, P13.4: each byte of a name.
func TestEachName(t *testing.T) {
	for _, version := range known {
		ground := "TIT2"[:nameSize(version)]
		for at := range len(ground) {
			for x := range 256 {
				b := []byte(ground)
				b[at] = byte(x)
				if f := of(string(b), 0, 0, 0, "a"); isName(version, f.ID) {
					prints(t, version, f)
				} else {
					refuses(t, version, f)
				}
			}
		}
	}
}

// sized holds that a frame is printed, with so many bytes, or that it is too large; it may be in either case.
func sized(t *testing.T, version int, f frame.Frame, size int, ok bool) {
	t.Helper()
	if wrong := f.Check(version); wrong.Bad() {
		t.Errorf("version %d, format %x, %d bytes: %v", version, f.Format, len(f.Body), wrong)
	}
	s, wrong := f.Print(version)
	if !ok {
		if s != "" || wrong != (api.Fault{Errno: api.ErrTooLarge}) {
			t.Errorf("version %d, format %x, %d bytes: %d, %v", version, f.Format, len(f.Body), len(s), wrong)
		}
		return
	}
	if len(s) != size || wrong.Bad() {
		t.Errorf("version %d, format %x, %d bytes: %d, not %d, %v", version, f.Format, len(f.Body), len(s), size, wrong)
	}
}

// P13.3: the largest frames, and such as are one byte larger.
func TestTooLarge(t *testing.T) {
	const most, most2 = api.MaxSafe, 1<<24 - 1
	large := strings.Repeat("a", most+1)
	sized(t, 2, of("TT2", 0, 0, 0, large[:most2]), most2+6, true)
	sized(t, 2, of("TT2", 0, 0, 0, large[:most2+1]), 0, false)
	sized(t, 2, of("TT2", 0, 0, 0, large), 0, false)
	for _, version := range []int{3, 4} {
		sized(t, version, of("TIT2", 0, 0, 0, large[:most2+1]), most2+11, true)
		sized(t, version, of("TIT2", 0, 0, 0, large[:most]), most+10, true)
		sized(t, version, of("TIT2", 0, 0, 0, large), 0, false)
		sized(t, version, of("TIT2", 0, 0xCC, 0, large), 0, false)
	}
	sized(t, 3, of("TIT2", 0, 0x20, 7, large[:most-1]), most+10, true)
	sized(t, 3, of("TIT2", 0, 0x20, 7, large[:most]), 0, false)
	sized(t, 3, of("TIT2", 0, 0x20, 7, large), 0, false)
	sized(t, 3, of("TIT2", 0, 0xA0, 0, large[:most]), most+10, true)
	sized(t, 4, of("TIT2", 0, 0x40, 0, large[:most-1]), most+10, true)
	sized(t, 4, of("TIT2", 0, 0x40, 0, large[:most]), 0, false)
	sized(t, 4, of("TIT2", 0, 1, 0, large[:most-4]), most+10, true)
	sized(t, 4, of("TIT2", 0, 1, 0, large[:most-3]), 0, false)
	sized(t, 4, of("TIT2", 0, 1, 0, large), 0, false)
	sized(t, 4, of("TIT2", 0, 0x41, 0, large[:most-5]), most+10, true)
	sized(t, 4, of("TIT2", 0, 0x41, 0, large[:most-4]), 0, false)
	sized(t, 4, of("TIT2", 0, 2, 0, large[:most]), most+10, true)
	sized(t, 4, of("TIT2", 0, 2, 0, large), 0, false)
	sized(t, 4, of("TIT2", 0, 0x4F, 0, large[:most]), most+10, true)
}

// P13.3: bodies that are too large only once they are spread.
func TestTooLargeSpread(t *testing.T) {
	const most = api.MaxSafe
	sound := strings.Repeat("\xff", 1<<27)
	half := sound[:most/2] // twice that is one byte less than may be
	sized(t, 4, of("TIT2", 0, 2, 0, sound), 0, false)
	sized(t, 4, of("TIT2", 0, 2, 0, half), most+9, true)
	sized(t, 4, of("TIT2", 0, 0x42, 0, half), most+10, true)
	sized(t, 4, of("TIT2", 0, 0x42, 0, half+"a"), most+10, true) // the last byte of half doesn't look like sound then
	sized(t, 4, of("TIT2", 0, 0x42, 0, half+"\x00"), 0, false)
	sized(t, 4, of("TIT2", 0, 2, 0, "a"+half), most+10, true)
	sized(t, 4, of("TIT2", 0, 3, 0, half), 0, false)
	sized(t, 4, of("TIT2", 0, 0, 0, sound), 1<<27+10, true)
	sized(t, 4, of("TIT2", 0, 0xA, 0, sound), 1<<27+10, true)
}

// P13.4: a frame of all the bytes that there may be is read as it was.
func TestLargest(t *testing.T) {
	body := strings.Repeat("ab\xff\xe0", 1<<24)
	for _, c := range []struct {
		version int
		f       frame.Frame
	}{
		{2, of("TT2", 0, 0, 0, body[:1<<24-1])},
		{3, of("TIT2", 9, 0x20, 7, body)},
		{4, of("TIT2", 9, 0x41, 7, body)},
		{4, of("TIT2", 9, 0x43, 7, body)},
	} {
		prints(t, c.version, c.f)
	}
}
