package unsync_test

import (
	"strings"
	"testing"

	"diacritic/unsync"
)

// looks tells by the chapter's words whether the byte at a place looks like the beginning of sound.
func looks(b string, at int) bool {
	rest := b[at:]
	if rest[0] != '\xff' {
		return false
	}
	if len(rest) == 1 {
		return true
	}
	return rest[1] == '\x00' || rest[1] >= '\xe0'
}

// putting is what Put should answer, made from the text's end on.
func putting(b string) string {
	s := ""
	for i := len(b) - 1; i >= 0; i-- {
		if looks(b, i) {
			s = "\x00" + s
		}
		s = b[i:i+1] + s
	}
	return s
}

// dropping is what Drop should answer: ReplaceAll goes from the left on, and doesn't look again at what it has put.
func dropping(b string) string { return strings.ReplaceAll(b, "\xff\x00", "\xff") }

// holds holds all four answers of one text against what they should be.
func holds(t *testing.T, b string) {
	t.Helper()
	want := putting(b)
	s := unsync.Put(b)
	if s != want {
		t.Errorf("Put(%x) = %x, not %x", b, s, want)
	}
	if d := unsync.Drop(b); d != dropping(b) {
		t.Errorf("Drop(%x) = %x, not %x", b, d, dropping(b))
	}
	if n := unsync.Extra(b); n != len(want)-len(b) {
		t.Errorf("Extra(%x) = %d, not %d", b, n, len(want)-len(b))
	}
	if c := unsync.Clean(b); c != (want == b) {
		t.Errorf("Clean(%x) = %v", b, c)
	}
	if d := unsync.Drop(s); d != b {
		t.Errorf("Drop(Put(%x)) = %x", b, d)
	}
	for i := range len(s) {
		if s[i] == 0xFF && (i == len(s)-1 || s[i+1] >= 0xE0) {
			t.Errorf("Put(%x) = %x has sound at %d", b, s, i)
		}
	}
}

// P11.1: what is told text by text, the chapter's examples among it.
func TestTold(t *testing.T) {
	for _, c := range []struct {
		b, put, drop string
		extra        int
		clean        bool
	}{
		{"", "", "", 0, true},
		{"\xff", "\xff\x00", "\xff", 1, false},
		{"\xff\xe0", "\xff\x00\xe0", "\xff\xe0", 1, false},
		{"\xff\x00", "\xff\x00\x00", "\xff", 1, false},
		{"\xff\x00\x00", "\xff\x00\x00\x00", "\xff\x00", 1, false},
		{"\xffA", "\xffA", "\xffA", 0, true},
		{"\xff\x01", "\xff\x01", "\xff\x01", 0, true},
		{"\xff\xdf", "\xff\xdf", "\xff\xdf", 0, true},
		{"\xff\xe1", "\xff\x00\xe1", "\xff\xe1", 1, false},
		{"\xff\xfe", "\xff\x00\xfe", "\xff\xfe", 1, false},
		{"\xff\xff", "\xff\x00\xff\x00", "\xff\xff", 2, false},
		{"\xff\xffA", "\xff\x00\xffA", "\xff\xffA", 1, false},
		{"\xff\xff\x00", "\xff\x00\xff\x00\x00", "\xff\xff", 2, false},
		{"\xff\x00\xff", "\xff\x00\x00\xff\x00", "\xff\xff", 2, false},
		{"\xff\x00\xff\x00", "\xff\x00\x00\xff\x00\x00", "\xff\xff", 2, false},
		{"\x00", "\x00", "\x00", 0, true},
		{"\x00\x00", "\x00\x00", "\x00\x00", 0, true},
		{"\x00\xff", "\x00\xff\x00", "\x00\xff", 1, false},
		{"\xfe\xe0", "\xfe\xe0", "\xfe\xe0", 0, true},
		{"\xfe\x00", "\xfe\x00", "\xfe\x00", 0, true},
		{"\xe0\xfe", "\xe0\xfe", "\xe0\xfe", 0, true},
		{"A\xffA\x00", "A\xffA\x00", "A\xffA\x00", 0, true},
		{"A\xff\xfbB\xff\x00C\xff", "A\xff\x00\xfbB\xff\x00\x00C\xff\x00", "A\xff\xfbB\xffC\xff", 3, false},
		{"\xff\x7f\xff\x80", "\xff\x7f\xff\x80", "\xff\x7f\xff\x80", 0, true},
	} {
		if s := unsync.Put(c.b); s != c.put {
			t.Errorf("Put(%x) = %x, not %x", c.b, s, c.put)
		}
		if s := unsync.Drop(c.b); s != c.drop {
			t.Errorf("Drop(%x) = %x, not %x", c.b, s, c.drop)
		}
		if n := unsync.Extra(c.b); n != c.extra {
			t.Errorf("Extra(%x) = %d, not %d", c.b, n, c.extra)
		}
		if is := unsync.Clean(c.b); is != c.clean {
			t.Errorf("Clean(%x) = %v", c.b, is)
		}
		holds(t, c.b)
	}
}

// P11.1, P11.2: all bytes, all pairs of bytes, also between others.
func TestPairs(t *testing.T) {
	for code := range 0x10000 {
		b := string([]byte{byte(code >> 8), byte(code)})
		holds(t, b)
		holds(t, b[:1])
		holds(t, "a"+b+"b")
		holds(t, "\xff"+b)
	}
}

// P11.1, P11.2: all texts of up to six of the bytes at the edges.
func TestEdges(t *testing.T) {
	const edges = "\x00\x01A\xdf\xe0\xfe\xff"
	texts := []string{""}
	for size := 0; size <= 6; size++ {
		var longer []string
		for _, b := range texts {
			holds(t, b)
			for i := range len(edges) {
				longer = append(longer, b+edges[i:i+1])
			}
		}
		texts = longer
	}
}

// P11.1, P11.2: long texts, all of one kind.
func TestLong(t *testing.T) {
	const n = 300_000
	for _, c := range []struct {
		b, put, drop string
	}{
		{"\xff", "\xff\x00", "\xff"},
		{"\xff\x00", "\xff\x00\x00", "\xff"},
		{"\xff\xe0", "\xff\x00\xe0", "\xff\xe0"},
		{"\xffA", "\xffA", "\xffA"},
		{"\x00", "\x00", "\x00"},
		{"abc", "abc", "abc"},
	} {
		b, put, drop := strings.Repeat(c.b, n), strings.Repeat(c.put, n), strings.Repeat(c.drop, n)
		if unsync.Put(b) != put {
			t.Errorf("Put of many %x is wrong", c.b)
		}
		if unsync.Drop(b) != drop {
			t.Errorf("Drop of many %x is wrong", c.b)
		}
		if unsync.Drop(put) != b {
			t.Errorf("Drop(Put) of many %x is wrong", c.b)
		}
		if unsync.Extra(b) != len(put)-len(b) || unsync.Clean(b) != (put == b) {
			t.Errorf("Extra or Clean of many %x is wrong", c.b)
		}
	}
}
