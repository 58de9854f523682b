package point_test

import (
	"math"
	"slices"
	"strings"
	"testing"

	"diacritic/api"
	"diacritic/point"
)

// sign is a number's bytes, as the chapter tells them; it doesn't ask whether the number is a sign's.
func sign(p int) string {
	low := func(shift int) byte { return byte(0x80 + p>>shift%64) }
	switch {
	case p < 0x80:
		return string([]byte{byte(p)})
	case p < 0x800:
		return string([]byte{byte(0xC0 + p>>6), low(0)})
	case p < 0x10000:
		return string([]byte{byte(0xE0 + p>>12), low(6), low(0)})
	}
	return string([]byte{byte(0xF0 + p>>18), low(12), low(6), low(0)})
}

// allSigns are all signs' numbers, by their bytes.
func allSigns() map[string]rune {
	m := map[string]rune{}
	for p := 0; p <= 0x10FFFF; p++ {
		if p < 0xD800 || p > 0xDFFF {
			m[sign(p)] = rune(p)
		}
	}
	return m
}

func undecodable(at int) api.Fault { return api.Fault{Errno: api.ErrUndecodable, At: at} }

// P2.1: the edges of what is a sign's number.
func TestScalar(t *testing.T) {
	for p, want := range map[rune]bool{
		0: true, 1: true, 'a': true, 0x7F: true, 0x80: true, 0x7FF: true, 0x800: true,
		0xD7FF: true, 0xD800: false, 0xDABC: false, 0xDBFF: false, 0xDC00: false, 0xDFFF: false, 0xE000: true,
		0xFDD0: true, 0xFEFF: true, 0xFFFD: true, 0xFFFE: true, 0xFFFF: true, 0x10000: true, 0x1F600: true,
		0x10FFFF: true, 0x110000: false, 0x200000: false, -1: false, -0x80: false,
		math.MinInt32: false, math.MaxInt32: false,
	} {
		if got := point.Scalar(p); got != want {
			t.Errorf("Scalar(%x) = %v", p, got)
		}
	}
}

// P2.1: each sign's bytes, and what is none.
func TestTextOfEachNumber(t *testing.T) {
	for p := -0x100; p <= 0x110100; p++ {
		want, ok := "", p >= 0 && p <= 0x10FFFF && (p < 0xD800 || p > 0xDFFF)
		if ok {
			want = sign(p)
		}
		if got, gotOk := point.Text(rune(p)); got != want || gotOk != ok || point.Scalar(rune(p)) != ok {
			t.Fatalf("Text(%x) = %x, %v; Scalar: %v", p, got, gotOk, point.Scalar(rune(p)))
		}
	}
}

// P2.1: some signs behind one another; one that is none among them.
func TestTextOfSome(t *testing.T) {
	for _, c := range []struct {
		points []rune
		want   string
		ok     bool
	}{
		{nil, "", true},
		{[]rune{}, "", true},
		{[]rune{0}, "\x00", true},
		{[]rune{233}, "\xc3\xa9", true},
		{[]rune{'b', 'a', 'a'}, "baa", true},
		{[]rune{0xAC00, 'a', 0x1F600, 0x7FF}, "\xea\xb0\x80a\xf0\x9f\x98\x80\xdf\xbf", true},
		{[]rune{0xFEFF, 0xFFFD}, "\xef\xbb\xbf\xef\xbf\xbd", true},
		{[]rune{0xD800, 'a'}, "", false},
		{[]rune{'a', 0xDFFF, 'b'}, "", false},
		{[]rune{'a', 'b', 0x110000}, "", false},
		{[]rune{'a', -1}, "", false},
		{[]rune{0xD83D, 0xDE00}, "", false}, // two halves are no sign
	} {
		if got, ok := point.Text(c.points...); got != c.want || ok != c.ok {
			t.Errorf("Text(%x) = %x, %v", c.points, got, ok)
		}
	}
	if got, ok := point.Text(); got != "" || !ok {
		t.Errorf("Text() = %x, %v", got, ok)
	}
}

// R3: the list that is handed in stays as it is, with the room behind its end.
func TestTextKeepsItsList(t *testing.T) {
	all := []rune{233, 234, 235, 236}
	point.Text(all[1:2]...)
	if !slices.Equal(all, []rune{233, 234, 235, 236}) {
		t.Error(all)
	}
}

// P2.2: texts that are made of signs.
func TestWholeTexts(t *testing.T) {
	for _, c := range []struct {
		s      string
		points []rune
	}{
		{"", nil},
		{"\x00", []rune{0}},
		{"a\x7f", []rune{'a', 0x7F}},
		{"\xc3\xa9", []rune{233}},
		{"\xc2\x80\xdf\xbf", []rune{0x80, 0x7FF}},
		{"\xe0\xa0\x80\xed\x9f\xbf\xee\x80\x80\xef\xbf\xbf", []rune{0x800, 0xD7FF, 0xE000, 0xFFFF}},
		{"\xf0\x90\x80\x80\xf4\x8f\xbf\xbf", []rune{0x10000, 0x10FFFF}},
		{"\xef\xbb\xbfa\xef\xbf\xbdb\xef\xbf\xbe", []rune{0xFEFF, 'a', 0xFFFD, 'b', 0xFFFE}},
		{"b\xea\xb0\x80a\xea\xb0\x80", []rune{'b', 0xAC00, 'a', 0xAC00}},
		{"e\xcc\x81\xf0\x9f\x98\x80", []rune{'e', 0x301, 0x1F600}},
	} {
		l, f := point.Points(c.s)
		if !slices.Equal(l, c.points) || f != (api.Fault{}) {
			t.Errorf("Points(%x) = %x, %v", c.s, l, f)
		}
		if point.Check(c.s) != (api.Fault{}) || !point.Valid(c.s) || point.Count(c.s) != len(c.points) {
			t.Errorf("%x: %v, %v, %d", c.s, point.Check(c.s), point.Valid(c.s), point.Count(c.s))
		}
		if s, ok := point.Text(l...); s != c.s || !ok { // P2.3
			t.Errorf("Text of Points of %x = %x, %v", c.s, s, ok)
		}
	}
}

// P2.2: texts that aren't made of signs, and where.
func TestBrokenTexts(t *testing.T) {
	for _, bad := range []string{
		"\x80", "\xbf", "\x80\x80", // no first byte
		"\xc0\x80", "\xc1\xbf", "\xe0\x80\x80", "\xe0\x9f\xbf", "\xf0\x80\x80\x80", "\xf0\x8f\xbf\xbf", // too many bytes
		"\xed\xa0\x80", "\xed\xaf\xbf", "\xed\xb0\x80", "\xed\xbf\xbf", "\xed\xa0\xbd\xed\xb8\x80", // halves
		"\xf4\x90\x80\x80", "\xf5\x80\x80\x80", "\xf7\xbf\xbf\xbf", // above MaxPoint
		"\xf8\x88\x80\x80\x80", "\xfc\x84\x80\x80\x80\x80", "\xfe", "\xff", "\xff\xfe",
		"\xc3", "\xe2\x82", "\xe2", "\xf0\x9f\x98", "\xf0\x9f", "\xf0", // not whole
		"\xc3a", "\xe2\x82a", "\xe2a\x82", "\xf0\x9f\x98a", "\xf0a\x9f\x98", "\xc3\xc3\xa9", "\xe2\x82\xc3\xa9",
	} {
		for _, ahead := range []string{"", "a", "\xc3\xa9", "a\xef\xbf\xbd", "\xf0\x9f\x98\x80ab"} {
			for _, behind := range []string{"", "a", "\xff"} {
				s, want := ahead+bad+behind, undecodable(len(ahead))
				l, f := point.Points(s)
				if len(l) != 0 || f != want || point.Check(s) != want {
					t.Errorf("%x: %x, %v, %v, not %v", s, l, f, point.Check(s), want)
				}
				if point.Valid(s) || point.Count(s) != 0 {
					t.Errorf("%x: %v, %d", s, point.Valid(s), point.Count(s))
				}
			}
		}
	}
}

// P2.2: a whole sign's last byte may be missing, and so the place lies behind the signs ahead, not at the text's end.
func TestCutTexts(t *testing.T) {
	s := "a\xc3\xa9\xea\xb0\x80\xf0\x9f\x98\x80"
	for n, at := range []int{-1, -1, 1, -1, 3, 3, -1, 6, 6, 6, -1} {
		want := undecodable(at)
		if at < 0 {
			want = api.Fault{}
		}
		if f := point.Check(s[:n]); f != want {
			t.Errorf("Check of %d bytes: %v", n, f)
		}
	}
}

// P2.2, P2.3: all texts of up to four of the bytes that matter, against the signs' bytes as the chapter tells them.
func TestAllShortTexts(t *testing.T) {
	signs := allSigns()
	bytes := []byte{0, 0x41, 0x7F, 0x80, 0x8F, 0x90, 0x9F, 0xA0, 0xBF, 0xC0, 0xC1, 0xC2, 0xDF, 0xE0, 0xE1, 0xEC, 0xED, 0xEE, 0xEF, 0xF0, 0xF1, 0xF3, 0xF4, 0xF5, 0xFF}
	texts, last := []string{""}, []string{""}
	for range 4 {
		var next []string
		for _, s := range last {
			for _, b := range bytes {
				next = append(next, s+string([]byte{b}))
			}
		}
		texts, last = append(texts, next...), next
	}
	for _, s := range texts {
		want, at := told(signs, s)
		l, f := point.Points(s)
		wrong := api.Fault{}
		if at >= 0 {
			want, wrong = nil, undecodable(at)
		}
		if !slices.Equal(l, want) || f != wrong || point.Check(s) != wrong || point.Valid(s) != (at < 0) || point.Count(s) != len(want) {
			t.Fatalf("%x: %x, %v, %v, %v, %d", s, l, f, point.Check(s), point.Valid(s), point.Count(s))
		}
		if again, ok := point.Text(l...); at < 0 && (again != s || !ok) {
			t.Fatalf("Text of Points of %x = %x, %v", s, again, ok)
		}
	}
}

// told are a text's signs by their bytes, and the first place without one (below 0: there is none).
func told(signs map[string]rune, s string) ([]rune, int) {
	var l []rune
	at := 0
next:
	for at < len(s) {
		for n := 1; n <= 4 && at+n <= len(s); n++ {
			if p, ok := signs[s[at:at+n]]; ok {
				l = append(l, p)
				at += n
				continue next
			}
		}
		return l, at
	}
	return l, -1
}

// P2.3: what Text makes has just those Points.
func TestPointsOfText(t *testing.T) {
	var all []rune
	for p := rune(0); p <= api.MaxPoint; p++ {
		if p < 0xD800 || p > 0xDFFF {
			all = append(all, p)
		}
	}
	s, ok := point.Text(all...)
	l, f := point.Points(s)
	if !ok || f.Bad() || !slices.Equal(l, all) || point.Count(s) != 0x110000-0x800 || !point.Valid(s) {
		t.Error(ok, f, len(l), point.Count(s))
	}
}

// R3: each answer is new memory.
func TestPointsAreNew(t *testing.T) {
	l, _ := point.Points("ab")
	l[0] = 'x'
	_ = append(l, 'y')
	if m, f := point.Points("ab"); f.Bad() || !slices.Equal(m, []rune{'a', 'b'}) {
		t.Error(m, f)
	}
}

// P2.2: plain texts, and bytes from 128 on at each place.
func TestPlain(t *testing.T) {
	for s, want := range map[string]bool{
		"": true, "\x00": true, "abc": true, "\x7f\x01 ~": true, strings.Repeat("a", 100): true,
		"\x80": false, "\xff": false, "\xc3\xa9": false, "\xc3": false,
		"\x80ab": false, "a\x80b": false, "ab\x80": false, strings.Repeat("a", 100) + "\xe9": false,
	} {
		if got := point.Plain(s); got != want {
			t.Errorf("Plain(%x) = %v", s, got)
		}
	}
	for b := range 256 {
		if got := point.Plain("a" + string([]byte{byte(b)}) + "a"); got != (b < 128) {
			t.Errorf("Plain of %x: %v", b, got)
		}
	}
}
