package detect_test

import (
	"math"
	"slices"
	"strings"
	"testing"

	"diacritic/api"
	"diacritic/charset"
	"diacritic/detect"
)

// legacy are the seven legacy charsets.
var legacy = []api.Charset{api.Latin1, api.KOI8R, api.KOI8U, api.CP866, api.CP949, api.Johab, api.Big5}

// cyrillic are the charsets of Cyrillic letters.
var cyrillic = []api.Charset{api.KOI8R, api.KOI8U, api.CP866}

// notLegacy are charsets that aren't legacy ones, and numbers that aren't charsets.
var notLegacy = []api.Charset{api.UTF8, api.UTF16L, api.UTF16B, -1, -7, 10, 11, 256, 257, 1 << 32, math.MinInt, math.MaxInt}

// span is the weight of some signs, both ends among them.
type span struct {
	first, last rune
	weight      int
}

// below80 are the weights that all charsets have.
var below80 = []span{{0, 8, -6}, {9, 0xA, 0}, {0xB, 0xC, -6}, {0xD, 0xD, 0}, {0xE, 0x1F, -6}, {0x20, 0x7E, 0}, {0x7F, 0x7F, -6}}

// smallLetters and capitals are Cyrillic ones, as the chapter tells them.
var (
	smallLetters = []span{{0x430, 0x45F, 4}, {0x491, 0x491, 4}}
	capitals     = []span{{0x400, 0x42F, 2}, {0x490, 0x490, 2}}
)

// spans are the weights in each charset of what is 80 and above; the first that has a sign tells.
func spans(c api.Charset) []span {
	rest := func(weight int) span { return span{0x80, 0x10FFFF, weight} }
	switch c {
	case api.Latin1:
		return []span{{0x80, 0x9F, -8}, {0xA0, 0xBF, -1}, {0xD7, 0xD7, -1}, {0xF7, 0xF7, -1}, rest(1)}
	case api.CP949, api.Johab:
		return []span{{0xAC00, 0xD7A3, 2}, {0x3131, 0x318E, -2}, rest(1)}
	case api.Big5:
		return []span{{0x4E00, 0x9FFF, 5}, rest(1)}
	}
	return append(slices.Concat(smallLetters, capitals), rest(-4))
}

// weigh is a sign's weight by some spans, and whether they have it.
func weigh(l []span, p rune) (int, bool) {
	for _, s := range l {
		if p >= s.first && p <= s.last {
			return s.weight, true
		}
	}
	return 0, false
}

// inRows are the syllables that two bytes from A1 on have in CP949.
func inRows(t *testing.T) map[rune]bool {
	m := map[rune]bool{}
	for lead := 0xB0; lead <= 0xC8; lead++ {
		for second := 0xA1; second <= 0xFE; second++ {
			s, f := charset.Decode(api.CP949, string([]byte{byte(lead), byte(second)}))
			if f.Bad() {
				t.Fatalf("%x%x: %v", lead, second, f)
			}
			m[[]rune(s)[0]] = true
		}
	}
	return m
}

// scoreOf is what a text should score, reckoned from the chapter.
func scoreOf(c api.Charset, text string, rows map[rune]bool) int {
	sum := 0
	l := []rune(text)
	for i, p := range l {
		w, ok := weigh(below80, p)
		if !ok {
			w, _ = weigh(spans(c), p)
		}
		if (c == api.CP949 || c == api.Johab) && rows[p] {
			w = 6
		}
		sum += w
		if _, big := weigh(capitals, p); big && i > 0 {
			if _, little := weigh(smallLetters, l[i-1]); little {
				sum -= 3
			}
		}
	}
	return sum
}

// scores holds what Score answers against what it should.
func scores(t *testing.T, c api.Charset, b string, want int, ok bool) {
	t.Helper()
	if n, is := detect.Score(c, b); n != want || is != ok {
		t.Errorf("Score(%d, %x) = %d, %v; not %d, %v", c, b, n, is, want, ok)
	}
}

// weighed holds what bytes score against what the text that they are should; false: they are none.
func weighed(t *testing.T, c api.Charset, b string, rows map[rune]bool) {
	t.Helper()
	text, f := charset.Decode(c, b)
	if f.Bad() {
		scores(t, c, b, 0, false)
		return
	}
	scores(t, c, b, scoreOf(c, text, rows), true)
}

// P10.1: the chapter's examples and ordinary texts.
func TestScoreOfTexts(t *testing.T) {
	for _, x := range []struct {
		c    api.Charset
		b    string
		want int
	}{
		{api.Latin1, "\xe9", 1},
		{api.KOI8R, "\xc1\xc2", 8},
		{api.CP866, "\x80\xa0", 6},
		{api.Latin1, "O\xf9 \xe7a? \xff", 3},
		{api.Latin1, "Caf\xe9 del Mar", 1},
		{api.Latin1, "\xabNo\xebl\xbb 3\xd72", 1 - 3},
		{api.KOI8R, "\xed\xcf\xd3\xcb\xd7\xc1, \xa3\xcc\xcb\xc1", 2 + 5*4 + 4*4},
		{api.KOI8U, "\xfd\xc5 \xce\xc5 \xd7\xcd\xc5\xd2\xcc\xc1 \xf5\xcb\xd2\xc1\xa7\xce\xc9", 2 + 4 + 8 + 24 + 2 + 6*4},
		{api.KOI8R, "\xfd\xc5 \xce\xc5 \xd7\xcd\xc5\xd2\xcc\xc1 \xf5\xcb\xd2\xc1\xa7\xce\xc9", 2 + 4 + 8 + 24 + 2 + 3*4 - 4 + 2*4},
		{api.KOI8U, "\xad\xc1\xce\xcf\xcb", 20},
		{api.KOI8R, "\xad\xc1\xce\xcf\xcb", 12},
		{api.CP866, "\x8f\xe0\xa8\xa2\xa5\xe2, \xac\xa8\xe0", 2 + 8*4},
		{api.KOI8R, "\x8f\xe0\xa8\xa2\xa5\xe2, \xac\xa8\xe0", -4 + 2 - 4*3 + 2 - 4*2 + 2},
		{api.KOI8R, "\xc1\xe1\xc1\xe1", 4 + 2 - 3 + 4 + 2 - 3},
		{api.CP949, "\xbe\xc8\xb3\xe7\xc7\xcf\xbc\xbc\xbf\xe4, \xbc\xbc\xb0\xe8 1", 7 * 6},
		{api.CP949, "\x8c\x63\xb9\xe6\xb0\xa2\xc7\xcf", 2 + 3*6},
		{api.CP949, "\xa4\xa1 \xa4\xbe\xa1\xa3", -2 - 2 + 1},
		{api.Johab, "\xb4\x65\x91\x77\xd0\x61\xad\x41\xb6\x61, \xad\x41\x89\x81 1", 7 * 6},
		{api.Johab, "\x99\xb1\xa4\x77\x88\x62\xd0\x61\x88\x41", 2 + 3*6 - 2},
		{api.Big5, "\xa5\x40\xa4\x57\xa1\x43", 5 + 5 + 1},
		{api.Big5, "\x88\x62\x88\xa5\x88\x66", 5},
		{api.Big5, "\x88\x62\xa5\x40\x00a\x7f", 2 + 5 - 12},
	} {
		scores(t, x.c, x.b, x.want, true)
	}
	for _, c := range legacy {
		scores(t, c, "", 0, true)
		scores(t, c, "A song, 1: two\r\n\tthree ~", 0, true)
		scores(t, c, "A song\x00\x1f\x7f", -18, true)
	}
}

// P10.1: all bytes and all pairs of bytes, in all legacy charsets.
func TestScoreOfBytes(t *testing.T) {
	rows := inRows(t)
	if len(rows) != 2350 {
		t.Fatalf("%d syllables are in the rows", len(rows))
	}
	for x := range 256 {
		for _, c := range legacy {
			weighed(t, c, string([]byte{byte(x)}), rows)
			weighed(t, c, string([]byte{'a', byte(x)}), rows)
		}
	}
	for _, c := range []api.Charset{api.CP949, api.Johab, api.Big5} {
		for code := range 0x10000 {
			weighed(t, c, string([]byte{byte(code >> 8), byte(code)}), rows)
		}
	}
}

// P10.1: a capital right behind a small letter, all of both, and others between, behind and ahead.
func TestCapitals(t *testing.T) {
	for _, c := range cyrillic {
		for x := 0x80; x < 0x100; x++ {
			var line []byte
			for y := 0x80; y < 0x100; y++ {
				line = append(line, byte(x), byte(y), ' ')
			}
			weighed(t, c, string(line), nil)
			weighed(t, c, string([]byte{byte(x), 0xC1}), nil)
			weighed(t, c, string([]byte{byte(x), 0xE1}), nil)
		}
	}
	for b, want := range map[string]int{
		"\xc1\xe1": 3, "\xe1\xc1": 6, "\xc1 \xe1": 6, "\xc1a\xe1": 6, "a\xe1": 2, "\xe1\xe1": 4,
		"\xc1\xe1\xe1": 5, "\xc1\xc1\xe1": 7, "\xc1\xe1\xc1": 7, "\xc1A": 4, "\xa3\xb3": 3, "\xb3\xa3": 6,
		"\xc1\n\xe1": 6, "\xc1\x00\xe1": 0, "\xc1\x80\xe1": 2, "\xe1\xc1\xe1\xc1\xe1\xc1": 12,
	} {
		scores(t, api.KOI8R, b, want, true)
	}
	for b, want := range map[string]int{"\xad\xbd": 3, "\xbd\xad": 6, "\xad\xb4": 3, "\xc1\xbd": 3, "\xa4\xe1": 3, "\xbd\xbd": 4} {
		scores(t, api.KOI8U, b, want, true)
	}
}

// P10.1: Cyrillic letters of Korean charsets, too.
func TestKoreanCapitals(t *testing.T) {
	for x := 0xA1; x <= 0xF1; x++ {
		for y := 0xA1; y <= 0xF1; y++ {
			weighed(t, api.CP949, string([]byte{0xAC, byte(x), 0xAC, byte(y)}), nil)
		}
	}
	for b, want := range map[string]int{
		"\xac\xd1\xac\xa1": 1 + 1 - 3, "\xac\xa1\xac\xd1": 2, "\xac\xd1 \xac\xa1": 2, "\xac\xd1\xb0\xa1\xac\xa1": 8,
		"\xac\xf1\xac\xa7\xac\xd7\xac\xc1": 4 - 6,
	} {
		scores(t, api.CP949, b, want, true)
	}
}

// P10.1: long texts, and what one byte at their end makes of them.
func TestLongTexts(t *testing.T) {
	const n = 100_000
	for c, x := range map[api.Charset]struct {
		b    string
		each int
	}{
		api.Latin1: {"\xe9\x80", -7}, api.KOI8R: {"\xc1\xe1", 3}, api.CP949: {"\xb0\xa1", 6}, api.Big5: {"\x88\x62", 2},
	} {
		scores(t, c, strings.Repeat(x.b, n), n*x.each, true)
	}
	scores(t, api.CP949, strings.Repeat("\xb0\xa1", n)+"\xb0", 0, false)
	scores(t, api.Big5, strings.Repeat("\x88\x62", n)+"\x80\x80", 0, false)
}

// P10.1: what is no text in a charset, and what is no legacy charset.
func TestNoScore(t *testing.T) {
	for c, l := range map[api.Charset][]string{
		api.CP949: {"\x80", "a\xb0", "\xb0", "\xb0\xa1\xff\xff", "\xac\xff", "\xb0 \xa1"},
		api.Johab: {"\x80", "a\x88", "\x88\x61\x88", "\x88\x40", "\xff\xff", "\xac\xbe"},
		api.Big5:  {"\x80", "a\xa5", "\xa5", "\xa5\x40\xa5", "\xa5\x7f", "\x88\x40", "\xf9\xd6"},
	} {
		for _, b := range l {
			scores(t, c, b, 0, false)
		}
	}
	for _, c := range notLegacy {
		for _, b := range []string{"", "a", "ab", "\xc3\xa9", "a\x00", "\xe9", "\xd0\xb0\xd0\x90"} {
			scores(t, c, b, 0, false)
		}
	}
}
