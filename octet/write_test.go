package octet_test

import (
	"math"
	"slices"
	"testing"

	"diacritic/octet"
)

// P1.1: texts, one behind the other.
func TestJoin(t *testing.T) {
	for _, c := range []struct {
		parts []string
		want  string
	}{
		{nil, ""},
		{[]string{}, ""},
		{[]string{""}, ""},
		{[]string{"", ""}, ""},
		{[]string{"ab"}, "ab"},
		{[]string{"b", "a"}, "ba"},
		{[]string{"a", "a"}, "aa"},
		{[]string{"", "a", "", "bc", ""}, "abc"},
		{[]string{"\x00", "\xff\xc3", " ", "\x80", "\n"}, "\x00\xff\xc3 \x80\n"},
	} {
		if got := octet.Join(c.parts...); got != c.want {
			t.Errorf("Join(%q) = %q", c.parts, got)
		}
	}
	if got := octet.Join(); got != "" {
		t.Errorf("Join() = %q", got)
	}
}

// R3: the list that is handed in stays as it is.
func TestJoinKeepsItsList(t *testing.T) {
	all := []string{"a", "b", "c"}
	octet.Join(all[:2]...)
	if !slices.Equal(all, []string{"a", "b", "c"}) {
		t.Error(all)
	}
}

// P1.1: numbers in so many bytes, and modulo what these hold.
func TestBigAndSmall(t *testing.T) {
	const n = 0x0102030405060708
	for _, c := range []struct {
		n          uint64
		size       int
		big, small string
	}{
		{258, 2, "\x01\x02", "\x02\x01"},
		{258, 3, "\x00\x01\x02", "\x02\x01\x00"},
		{258, 1, "\x02", "\x02"},
		{0, 0, "", ""},
		{n, 0, "", ""},
		{n, -1, "", ""},
		{n, math.MinInt, "", ""},
		{n, 1, "\x08", "\x08"},
		{n, 2, "\x07\x08", "\x08\x07"},
		{n, 3, "\x06\x07\x08", "\x08\x07\x06"},
		{n, 4, "\x05\x06\x07\x08", "\x08\x07\x06\x05"},
		{n, 5, "\x04\x05\x06\x07\x08", "\x08\x07\x06\x05\x04"},
		{n, 6, "\x03\x04\x05\x06\x07\x08", "\x08\x07\x06\x05\x04\x03"},
		{n, 7, "\x02\x03\x04\x05\x06\x07\x08", "\x08\x07\x06\x05\x04\x03\x02"},
		{n, 8, "\x01\x02\x03\x04\x05\x06\x07\x08", "\x08\x07\x06\x05\x04\x03\x02\x01"},
		{n, 9, "\x01\x02\x03\x04\x05\x06\x07\x08", "\x08\x07\x06\x05\x04\x03\x02\x01"},
		{n, math.MaxInt, "\x01\x02\x03\x04\x05\x06\x07\x08", "\x08\x07\x06\x05\x04\x03\x02\x01"},
		{0, 4, "\x00\x00\x00\x00", "\x00\x00\x00\x00"},
		{0x80FF, 2, "\x80\xff", "\xff\x80"},
		{256, 1, "\x00", "\x00"},
		{math.MaxUint64, 8, "\xff\xff\xff\xff\xff\xff\xff\xff", "\xff\xff\xff\xff\xff\xff\xff\xff"},
		{math.MaxUint64, 3, "\xff\xff\xff", "\xff\xff\xff"},
		{1 << 63, 8, "\x80\x00\x00\x00\x00\x00\x00\x00", "\x00\x00\x00\x00\x00\x00\x00\x80"},
	} {
		if got := octet.Big(c.n, c.size); got != c.big {
			t.Errorf("Big(%x, %d) = %x", c.n, c.size, got)
		}
		if got := octet.Small(c.n, c.size); got != c.small {
			t.Errorf("Small(%x, %d) = %x", c.n, c.size, got)
		}
	}
}

// P1.1: four bytes of seven bits, up to 2^28 - 1.
func TestSafe(t *testing.T) {
	for _, c := range []struct {
		n    uint64
		want string
		ok   bool
	}{
		{0, "\x00\x00\x00\x00", true},
		{1, "\x00\x00\x00\x01", true},
		{127, "\x00\x00\x00\x7f", true},
		{128, "\x00\x00\x01\x00", true},
		{129, "\x00\x00\x01\x01", true},
		{1<<14 - 1, "\x00\x00\x7f\x7f", true},
		{1 << 14, "\x00\x01\x00\x00", true},
		{1<<21 - 1, "\x00\x7f\x7f\x7f", true},
		{1 << 21, "\x01\x00\x00\x00", true},
		{1<<21 + 2<<14 + 3<<7 + 4, "\x01\x02\x03\x04", true},
		{1<<28 - 2, "\x7f\x7f\x7f\x7e", true},
		{1<<28 - 1, "\x7f\x7f\x7f\x7f", true},
		{1 << 28, "", false},
		{1<<28 + 1, "", false},
		{1 << 32, "", false},
		{1<<32 + 5, "", false},
		{1 << 63, "", false},
		{math.MaxUint64, "", false},
	} {
		if got, ok := octet.Safe(c.n); got != c.want || ok != c.ok {
			t.Errorf("Safe(%d) = %x, %v", c.n, got, ok)
		}
	}
}
