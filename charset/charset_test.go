package charset_test

import (
	"encoding/binary"
	"slices"
	"strings"
	"testing"
	"unicode/utf16"
	"unicode/utf8"

	"diacritic/api"
	"diacritic/big5"
	"diacritic/charset"
	"diacritic/johab"
	"diacritic/single"
	"diacritic/wansung"
)

// mixed are the charsets of one and two bytes a sign.
var mixed = []api.Charset{api.CP949, api.Johab, api.Big5}

// noSigns are texts that aren't made of signs from their first byte on.
var noSigns = []string{"\x80", "\xbf", "\xff", "\xc3", "\xc0\x80", "\xe0\x80\x80", "\xed\xa0\x80", "\xed\xbf\xbf", "\xf4\x90\x80\x80", "\xf0\x9f\x98", "\xf8\x88\x80\x80\x80"}

func undecodable(at int) api.Fault { return api.Fault{Errno: api.ErrUndecodable, At: at} }

func unencodable(at int) api.Fault { return api.Fault{Errno: api.ErrUnencodable, At: at} }

// decodes holds what Decode answers against what it should.
func decodes(t *testing.T, c api.Charset, b, want string, f api.Fault) {
	t.Helper()
	if got, wrong := charset.Decode(c, b); got != want || wrong != f {
		t.Errorf("Decode(%d, %x) = %+q, %v; not %+q, %v", c, b, got, wrong, want, f)
	}
}

// encodes holds what Encode answers against what it should.
func encodes(t *testing.T, c api.Charset, text, want string, f api.Fault) {
	t.Helper()
	if got, wrong := charset.Encode(c, text); got != want || wrong != f {
		t.Errorf("Encode(%d, %+q) = %x, %v; not %x, %v", c, text, got, wrong, want, f)
	}
}

// bothWays holds that bytes are a text, and that text those bytes.
func bothWays(t *testing.T, c api.Charset, b, text string) {
	t.Helper()
	decodes(t, c, b, text, api.Fault{})
	encodes(t, c, text, b, api.Fault{})
}

// P9.2: no such charset, whatever is handed in.
func TestNoCharset(t *testing.T) {
	for _, c := range far {
		for _, s := range append([]string{"", "a", "abc", "\u00e9", "\U0001F600", "a\xff"}, noSigns...) {
			decodes(t, c, s, "", api.Fault{Errno: api.ErrArg})
			encodes(t, c, s, "", api.Fault{Errno: api.ErrArg})
		}
	}
}

// P9.2: the chapter's examples, those of the whole, and ordinary texts.
func TestTexts(t *testing.T) {
	for _, x := range []struct {
		c       api.Charset
		b, text string
	}{
		{api.CP949, "\x61\xb0\xa1", "a\uac00"},
		{api.Johab, "\x88\x61", "\uac00"},
		{api.UTF8, "\xc3\xa9", "\u00e9"},
		{api.KOI8R, "\xc1", "\u0430"},
		{api.CP866, "\x80", "\u0410"},
		{api.Big5, "\x88\x62", "\u00ca\u0304"},
		{api.UTF16L, "a\x00\x00\xac", "a\uac00"},
		{api.UTF16B, "\x00a\xac\x00", "a\uac00"},
		{api.UTF16L, "\xff\xfe\x61\x00", "\ufeffa"},
		{api.UTF16B, "\xfe\xff\x00\x61", "\ufeffa"},
		{api.UTF16B, "\xff\xfe\xd8\x3d\xde\x00", "\ufffe\U0001F600"},
		{api.UTF8, "\xef\xbb\xbfa", "\ufeffa"},
		{api.Latin1, "\x4f\xf9\x20\xe7\x61\x3f\x20\xff", "O\u00f9 \u00e7a? \u00ff"},
		{api.KOI8R, "\xed\xcf\xd3\xcb\xd7\xc1\x2c\x20\xa3\xd6\x20\x31", "\u041c\u043e\u0441\u043a\u0432\u0430, \u0451\u0436 1"},
		{api.KOI8U, "\xeb\xc9\xa7\xd7\x2c\x20\xad\xc1\xce\xcf\xcb", "\u041a\u0438\u0457\u0432, \u0491\u0430\u043d\u043e\u043a"},
		{api.CP866, "\x8f\xe0\xa8\xa2\xa5\xe2\x2c\x20\xfc\x31\x20\xf1", "\u041f\u0440\u0438\u0432\u0435\u0442, \u21161 \u0451"},
		{api.CP949, "\xbe\xc8\xb3\xe7\xc7\xcf\xbc\xbc\xbf\xe4\x2c\x20\xbc\xbc\xb0\xe8\x20\x31", "\uc548\ub155\ud558\uc138\uc694, \uc138\uacc4 1"},
		{api.CP949, "\x94\xee\x20\x8c\x63\xb9\xe6\xb0\xa2\xc7\xcf\x20\xa4\xa1\xa4\xbe", "\ubdc1 \ub620\ubc29\uac01\ud558 \u3131\u314e"},
		{api.Johab, "\xb4\x65\x91\x77\xd0\x61\xad\x41\xb6\x61\x2c\x20\xad\x41\x89\x81\x20\x31", "\uc548\ub155\ud558\uc138\uc694, \uc138\uacc4 1"},
		{api.Johab, "\xa6\xca\x20\x99\xb1\xa4\x77\x88\x62\xd0\x61\x20\x88\x41\xd0\x41", "\ubdc1 \ub620\ubc29\uac01\ud558 \u3131\u314e"},
		{api.Big5, "\xa5\x40\xa4\x57\xa1\x40\xa4\xa4\xa4\xe5\xa1\x42\xa4\x6a\xa4\x48\x20\x28\x31\x29", "\u4e16\u4e0a\u3000\u4e2d\u6587\u3001\u5927\u4eba (1)"},
	} {
		bothWays(t, x.c, x.b, x.text)
	}
	decodes(t, api.CP949, "\x61\xb0", "", undecodable(1))
	for _, c := range all {
		bothWays(t, c, "", "")
	}
}

// signs are the signs of two bytes, as the layers below tell them.
func signs(c api.Charset, lead, second byte) (string, bool) {
	var p rune
	var ok bool
	switch c {
	case api.CP949:
		p, ok = wansung.Sign(lead, second)
	case api.Johab:
		p, ok = johab.Sign(lead, second)
	default:
		return big5.Signs(lead, second)
	}
	return string(p), ok
}

// codes are all bytes that stand for signs in a legacy charset, and these, as the layers below tell them.
func codes(c api.Charset) map[string]string {
	m := map[string]string{}
	if s, ok := single.Of(c); ok {
		for _, x := range s.Pairs() {
			m[string([]byte{byte(x.Code)})] = string(x.Point)
		}
		return m
	}
	for code := range 0x10000 {
		lead, second := byte(code>>8), byte(code)
		if code < 0x80 {
			m[string([]byte{second})] = string(rune(code))
		} else if s, ok := signs(c, lead, second); ok && lead >= 0x80 {
			m[string([]byte{lead, second})] = s
		}
	}
	return m
}

// P9.2: in the charsets of one byte a sign, each byte.
func TestSingle(t *testing.T) {
	for _, c := range all[:4] {
		m := codes(c)
		if len(m) != 256 {
			t.Errorf("%d has %d codes", c, len(m))
		}
		for b, s := range m {
			bothWays(t, c, b, s)
			bothWays(t, c, "a"+b+b+"\x00", "a"+s+s+"\x00")
		}
	}
}

// P9.2: in the charsets of two bytes, each byte alone.
func TestOneByte(t *testing.T) {
	for _, c := range mixed {
		for x := range 256 {
			b := string([]byte{byte(x)})
			if x < 0x80 {
				bothWays(t, c, b, b)
				bothWays(t, c, "~"+b+b+"0", "~"+b+b+"0")
				continue
			}
			decodes(t, c, b, "", undecodable(0))
			decodes(t, c, "a"+b, "", undecodable(1))
			decodes(t, c, "\x00\x7f0"+b, "", undecodable(3))
		}
	}
}

// P9.2: in the charsets of two bytes, each two of them.
func TestTwoBytes(t *testing.T) {
	for _, c := range mixed {
		m := codes(c)
		for code := range 0x10000 {
			b := string([]byte{byte(code >> 8), byte(code)})
			s, ok := m[b]
			switch {
			case b[0] < 0x80 && b[1] < 0x80:
				bothWays(t, c, b, b)
			case b[0] < 0x80:
				decodes(t, c, b, "", undecodable(1))
			case !ok:
				decodes(t, c, b, "", undecodable(0))
				decodes(t, c, "ab"+b+b, "", undecodable(2))
			default:
				bothWays(t, c, b, s)
				bothWays(t, c, "A"+b+b+"\x7f", "A"+s+s+"\x7f")
				decodes(t, c, b+b[:1], "", undecodable(2))
				decodes(t, c, "\x00"+b+b+"\xff\xff", "", undecodable(5))
			}
		}
	}
}

// P9.2: each sign in the legacy charsets, alone and among others.
func TestSigns(t *testing.T) {
	for _, c := range all[:7] {
		bytes := map[string]string{}
		for b, s := range codes(c) {
			bytes[s] = b
		}
		for p := rune(0); p <= api.MaxPoint; p++ {
			s := string(p)
			b, ok := bytes[s]
			switch {
			case !utf8.ValidRune(p) || p > 0x10010 && p%0x101 != 0 || c < api.CP949 && !ok && p > 0x500 && p%0x101 != 0:
			case ok:
				encodes(t, c, s, b, api.Fault{})
				encodes(t, c, s+s+"z", b+b+"z", api.Fault{})
			default:
				encodes(t, c, s, "", unencodable(0))
				encodes(t, c, "a"+s+"\u0370", "", unencodable(1))
			}
		}
	}
}

// P9.2: all signs in the charsets that have all.
func TestAllSigns(t *testing.T) {
	for p := rune(0); p <= api.MaxPoint; p++ {
		if !utf8.ValidRune(p) {
			continue
		}
		var little, big []byte
		for _, u := range utf16.AppendRune(nil, p) {
			little = binary.LittleEndian.AppendUint16(little, u)
			big = binary.BigEndian.AppendUint16(big, u)
		}
		bothWays(t, api.UTF8, string(p), string(p))
		bothWays(t, api.UTF16L, string(little), string(p))
		bothWays(t, api.UTF16B, string(big), string(p))
	}
}

// P9.2: where no sign stands in the charsets that have all.
func TestAllUndecodable(t *testing.T) {
	for _, bad := range noSigns {
		for _, ahead := range []string{"", "a", "\u00e9", "\uac00\U0001F600"} {
			decodes(t, api.UTF8, ahead+bad, "", undecodable(len(ahead)))
			decodes(t, api.UTF8, ahead+bad+"a\xff", "", undecodable(len(ahead)))
		}
	}
	for _, ahead := range []string{"", "a\x00", "\x3d\xd8\x00\xde"} {
		for _, bad := range []string{"\x00", "a", "\xff", "\x00\xd8", "\x00\xd8a\x00", "\x00\xdc", "\x00\xdc\x00\xd8", "\xff\xdb\xff"} {
			decodes(t, api.UTF16L, ahead+bad, "", undecodable(len(ahead)))
		}
	}
	for _, ahead := range []string{"", "\x00a", "\xd8\x3d\xde\x00"} {
		for _, bad := range []string{"\x00", "a", "\xff", "\xd8\x00", "\xd8\x00\x00a", "\xdc\x00", "\xdc\x00\xd8\x00", "\xdb\xff\xdf"} {
			decodes(t, api.UTF16B, ahead+bad, "", undecodable(len(ahead)))
		}
	}
}

// P9.2: what isn't made of signs, also where a sign without bytes stands ahead of it (R2).
func TestNoSigns(t *testing.T) {
	for _, c := range all {
		for _, bad := range noSigns {
			for _, ahead := range []string{"", "a", "\u3000", "\u2603", "\u2603\U0001F600a", "\u00ca"} {
				for _, behind := range []string{"", "a", "\u2603", "\xff"} {
					encodes(t, c, ahead+bad+behind, "", undecodable(len(ahead)))
				}
			}
		}
	}
}

// P9.2: signs without bytes, at their place in the text, the first one alone.
func TestUnencodable(t *testing.T) {
	for _, c := range all[:7] {
		for _, bad := range []string{"\u0080", "\u0103", "\u2603", "\ud7ff", "\ue000", "\ufeff", "\uffff", "\U00010000", "\U0001F600", "\U0010FFFF"} {
			if c == api.Latin1 && bad == "\u0080" {
				continue
			}
			for b, s := range codes(c) {
				if len(b) == 2 && b[1] != 0x62 && b[1] != 0xA4 { // of rows a few are enough
					continue
				}
				encodes(t, c, s+bad, "", unencodable(len(s)))
				encodes(t, c, s+"a"+s+bad+s+bad, "", unencodable(2*len(s)+1))
			}
		}
	}
}

// P9.2: of Big5 two signs at once, wherever two bytes stand for them.
func TestTwoSigns(t *testing.T) {
	for b, s := range map[string]string{
		"\x88\x62":         "\u00ca\u0304",
		"\x88\x64":         "\u00ca\u030c",
		"\x88\xa3":         "\u00ea\u0304",
		"\x88\xa5":         "\u00ea\u030c",
		"\x88\x66":         "\u00ca",
		"\x88\xa7":         "\u00ea",
		"\x88\x66\x88\x62": "\u00ca\u00ca\u0304",
		"\x88\x62\x88\x62": "\u00ca\u0304\u00ca\u0304",
		"\x88\x66\x88\xa5": "\u00ca\u00ea\u030c",
		"\x88\xa7\x88\x66": "\u00ea\u00ca",
		"\x88\x62a\xa4\x40\x88\xa3\x88\xa7\x88\xa7\x88\xa5": "\u00ca\u0304a\u4e00\u00ea\u0304\u00ea\u00ea\u00ea\u030c",
	} {
		bothWays(t, api.Big5, b, s)
	}
	for s, at := range map[string]int{
		"\u0304":                   0,
		"\u030c\u00ca":             0,
		"e\u0304":                  1,
		"\u00ca\u0304\u0304":       4,
		"\u00ca\u0304\u030c\u00ea": 4,
		"\u00caa\u0304":            3,
		"\u00ea\u030d":             2,
		"\u00ca\u0300":             2,
		"\u0112\u0304":             2,
		"\u00ca\uac00\u0304":       2,
		"\u4e00\u00ea\u030c\u4e00\u00ea\u030c\u030c": 14,
		"\u4e00\uac00":      3,
		"\u4e00a\U0001F600": 4,
	} {
		encodes(t, api.Big5, s, "", unencodable(at))
	}
}

// tries holds what Try answers against what it should.
func tries(t *testing.T, b string, l []api.Charset, want ...api.Charset) {
	t.Helper()
	kept := slices.Clone(l)
	if got := charset.Try(b, l...); !slices.Equal(got, want) {
		t.Errorf("Try(%x, %v) = %v, not %v", b, l, got, want)
	}
	if !slices.Equal(l, kept) {
		t.Errorf("Try(%x, %v) left %v", b, kept, l)
	}
}

// P9.2: Try, in order, as often as they are handed in.
func TestTry(t *testing.T) {
	tries(t, "a", nil)
	tries(t, "a", []api.Charset{})
	tries(t, "ab", all, all...)
	tries(t, "", all, all...)
	tries(t, "a", all, all[:8]...)
	tries(t, "\xff", all, all[:4]...)
	tries(t, "\xb0\xa1", all, 0, 1, 2, 3, 4, 5, 8, 9)
	tries(t, "\xa4\x40", all, 0, 1, 2, 3, 6, 8, 9)
	tries(t, "\xc3\xa9", []api.Charset{9, 7, 0, 7}, 9, 7, 0, 7)
	tries(t, "\xff", []api.Charset{7, 3, 7, 3, 0, 3, 4}, 3, 3, 0, 3)
	tries(t, "\xff", []api.Charset{4, 5, 6, 7, 8, 9})
	tries(t, "", far)
	tries(t, "a", append(far, api.CP866), api.CP866)
	tries(t, "\x00\xd8", all, 0, 1, 2, 3, 9)
}

// R3: what Try hands out is new memory, and what is handed in stays with the room behind its end.
func TestTryIsNew(t *testing.T) {
	l := []api.Charset{api.KOI8R, api.Latin1, api.CP949, -7}
	got := charset.Try("a", l[:3]...)
	got[0], got[2] = -1, -1
	_ = append(got, -1)
	charset.Try("\xff", l[:3]...)
	if !slices.Equal(l, []api.Charset{api.KOI8R, api.Latin1, api.CP949, -7}) {
		t.Error(l)
	}
	tries(t, "a", l[:3], api.KOI8R, api.Latin1, api.CP949)
}

// P9.3: each one or two bytes, there and back.
func TestBytesBack(t *testing.T) {
	for _, c := range all {
		for code := range 0x10100 {
			if c < api.CP949 && code%37 != 0 { // TestSingle has each byte
				continue
			}
			b := string([]byte{byte(code >> 8), byte(code)})
			if code >= 0x10000 {
				b = b[1:]
			}
			text, f := charset.Decode(c, b)
			if f.Bad() {
				continue
			}
			if !utf8.ValidString(text) {
				t.Errorf("Decode(%d, %x) = %x", c, b, text)
			}
			encodes(t, c, text, b, api.Fault{})
		}
	}
}

// P9.3: all that a legacy charset lists in one row, there and back.
func TestLongRows(t *testing.T) {
	for _, c := range all[:7] {
		m := codes(c)
		var up []string
		for b := range m {
			up = append(up, b)
		}
		slices.Sort(up)
		for range 2 {
			var b, text strings.Builder
			for _, x := range up {
				b.WriteString(x)
				text.WriteString(m[x])
			}
			bothWays(t, c, b.String(), text.String())
			slices.Reverse(up)
		}
	}
}

// W1: what two charsets can write is written in the second as what was read of the first.
func TestThroughTwo(t *testing.T) {
	for _, c := range all[:7] {
		for b, s := range codes(c) {
			if len(b) == 2 && b[1]%8 != 2 {
				continue
			}
			for _, d := range all {
				text, f := charset.Decode(c, b)
				other, g := charset.Encode(d, text)
				if f.Bad() || text != s {
					t.Errorf("Decode(%d, %x) = %+q, %v", c, b, text, f)
				}
				if g.Bad() && d < api.UTF8 {
					continue
				}
				bothWays(t, d, other, s)
			}
		}
	}
}
