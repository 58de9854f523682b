package octet_test

import (
	"math"
	"testing"

	"diacritic/api"
	"diacritic/octet"
)

func malformed(at int) api.Fault { return api.Fault{Errno: api.ErrMalformed, At: at} }

// stands holds what a reader tells of itself against what it should.
func stands(t *testing.T, what string, r *octet.In, left, at int, f api.Fault) {
	t.Helper()
	if r.Left() != left || r.At() != at || r.Fault() != f {
		t.Errorf("%s: left %d, at %d, %v; not %d, %d, %v", what, r.Left(), r.At(), r.Fault(), left, at, f)
	}
}

// silent asks a reader that has a fault for all it could read: nothing comes, and nothing changes.
func silent(t *testing.T, what string, r *octet.In) {
	t.Helper()
	at, f := r.At(), r.Fault()
	if !f.Bad() {
		t.Errorf("%s: no fault", what)
	}
	for _, n := range []int{math.MinInt, -1, 0, 1, 4, 9, math.MaxInt} {
		if s := r.Take(n); s != "" {
			t.Errorf("%s: Take(%d) = %q", what, n, s)
		}
		if s := r.Peek(n); s != "" {
			t.Errorf("%s: Peek(%d) = %q", what, n, s)
		}
		if v := r.Big(n); v != 0 {
			t.Errorf("%s: Big(%d) = %d", what, n, v)
		}
		if v := r.Small(n); v != 0 {
			t.Errorf("%s: Small(%d) = %d", what, n, v)
		}
	}
	for _, s := range []string{"", "a", "\x00", "no such text"} {
		if r.Want(s) {
			t.Errorf("%s: Want(%q)", what, s)
		}
		if got := r.Until(s); got != "" {
			t.Errorf("%s: Until(%q) = %q", what, s, got)
		}
	}
	if s, v := r.Rest(), r.Safe(); s != "" || v != 0 {
		t.Errorf("%s: Rest %q, Safe %d", what, s, v)
	}
	r.Fail(api.ErrTooLarge, 99)
	r.Fail(api.OK, 99)
	stands(t, what, r, 0, at, f)
}

// P1.2: a reader at first.
func TestReaders(t *testing.T) {
	stands(t, "Read", octet.Read("abc"), 3, 0, api.Fault{})
	stands(t, "Read of nothing", octet.Read(""), 0, 0, api.Fault{})
	for _, c := range []struct{ base, at int }{
		{0, 0}, {10, 10}, {-1, 0}, {-10, 0}, {math.MinInt, 0}, {1, 1}, {1 << 40, 1 << 40}, {1 << 62, 1 << 62},
	} {
		r := octet.Inner("ab", c.base)
		stands(t, "Inner", r, 2, c.at, api.Fault{})
		r.Take(1)
		stands(t, "Inner, one read", r, 1, c.at+1, api.Fault{})
		r.Take(2)
		stands(t, "Inner, at its end", r, 0, c.at+1, malformed(c.at+2))
	}
	octet.Inner("ab", math.MaxInt).Take(3) // nothing is promised but that it ends
}

// P1.2: left, at and fault, step by step.
func TestLeftAndAt(t *testing.T) {
	r := octet.Inner("abcdef", 10)
	for i, step := range []func(){
		func() { r.Take(1) }, func() { r.Want("b") }, func() { r.Big(1) }, func() { r.Until("d") }, func() { r.Small(1) }, func() { r.Rest() },
	} {
		stands(t, "ahead of a step", r, 6-i, 10+i, api.Fault{})
		step()
	}
	stands(t, "all read", r, 0, 16, api.Fault{})
}

// P1.2: the first fault stays; OK is none; both numbers are taken as they are.
func TestFail(t *testing.T) {
	for _, f := range []api.Fault{
		{Errno: api.ErrMalformed, At: 3}, {Errno: api.ErrTooLarge, At: 0}, {Errno: api.ErrNil, At: 1}, {Errno: api.ErrArg, At: -7},
		{Errno: 9, At: 5}, {Errno: 1000, At: math.MaxInt}, {Errno: -1, At: math.MinInt}, {Errno: math.MinInt, At: 2},
	} {
		r := octet.Inner("abc", 10)
		r.Take(1)
		r.Fail(api.OK, 50)
		stands(t, "OK", r, 2, 11, api.Fault{})
		r.Fail(f.Errno, f.At)
		stands(t, "failed", r, 0, 11, f)
		silent(t, "failed", r)
	}
	r := octet.Read("abc")
	r.Fail(api.OK, 0)
	if s := r.Take(3); s != "abc" {
		t.Errorf("behind OK: %q", s)
	}
}

// P1.2: of nil, and of a zero reader.
func TestNilAndZero(t *testing.T) {
	var none *octet.In
	stands(t, "nil", none, 0, 0, api.Fault{Errno: api.ErrNil})
	none.Fail(api.ErrMalformed, 3)
	stands(t, "nil, failed", none, 0, 0, api.Fault{Errno: api.ErrNil})
	silent(t, "nil", none)
	zero := new(octet.In)
	stands(t, "zero", zero, 0, 0, api.Fault{})
	if zero.Rest() != "" || zero.Take(0) != "" || zero.Peek(1) != "" || zero.Big(0) != 0 || !zero.Want("") || zero.Until("") != "" {
		t.Error("of a zero reader")
	}
	stands(t, "zero, read", zero, 0, 0, api.Fault{})
	zero.Take(1)
	stands(t, "zero, failed", zero, 0, 0, malformed(0))
}

// P1.3: so many bytes, and no more than there are.
func TestTake(t *testing.T) {
	for _, c := range []struct {
		n    int
		want string
		at   int
		f    api.Fault
	}{
		{0, "", 11, api.Fault{}},
		{1, "b", 12, api.Fault{}},
		{2, "bc", 13, api.Fault{}},
		{3, "", 11, malformed(13)},
		{4, "", 11, malformed(13)},
		{math.MaxInt, "", 11, malformed(13)},
		{-1, "", 11, malformed(13)},
		{math.MinInt, "", 11, malformed(13)},
	} {
		r := octet.Inner("abc", 10)
		r.Take(1)
		if got := r.Take(c.n); got != c.want {
			t.Errorf("Take(%d) = %q", c.n, got)
		}
		left := 13 - c.at
		if c.f.Bad() {
			left = 0
		}
		stands(t, "Take", r, left, c.at, c.f)
		if c.f.Bad() {
			silent(t, "Take", r)
		}
	}
	r := octet.Inner("ab", 10)
	if s := r.Take(3); s != "" || r.Fault() != malformed(12) { // the chapter's second example
		t.Error(s, r.Fault())
	}
	r = octet.Read("ab")
	if r.Take(2) != "ab" || r.Take(0) != "" || r.Fault().Bad() {
		t.Error("none at the end")
	}
}

// P1.3: all that are left.
func TestRest(t *testing.T) {
	r := octet.Inner("a\x00bc\xff", 7)
	r.Take(1)
	if s := r.Rest(); s != "\x00bc\xff" {
		t.Errorf("Rest = %q", s)
	}
	stands(t, "Rest", r, 0, 12, api.Fault{})
	if s := r.Rest(); s != "" {
		t.Errorf("Rest, once more = %q", s)
	}
	stands(t, "Rest, once more", r, 0, 12, api.Fault{})
	if s := octet.Read("").Rest(); s != "" {
		t.Errorf("Rest of nothing = %q", s)
	}
}

// P1.3: what is looked at isn't read.
func TestPeek(t *testing.T) {
	for n, want := range map[int]string{0: "", 1: "b", 2: "bc", 3: "bc", 4: "bc", math.MaxInt: "bc", -1: "", math.MinInt: ""} {
		r := octet.Inner("abc", 10)
		r.Take(1)
		for range 2 {
			if got := r.Peek(n); got != want {
				t.Errorf("Peek(%d) = %q", n, got)
			}
		}
		stands(t, "Peek", r, 2, 11, api.Fault{})
		if s := r.Rest(); s != "bc" {
			t.Errorf("behind Peek(%d): %q", n, s)
		}
		if s := r.Peek(n); s != "" {
			t.Errorf("Peek(%d) at the end = %q", n, s)
		}
		stands(t, "Peek at the end", r, 0, 13, api.Fault{})
	}
}

// P1.3: numbers of so many bytes; sizes below 0 and above 8.
func TestNumbers(t *testing.T) {
	const text = "\xf1\x02\x83\x04\x05\x06\x07\x88\x09"
	for _, c := range []struct {
		size, read int
		big, small uint64
	}{
		{math.MinInt, 0, 0, 0},
		{-1, 0, 0, 0},
		{0, 0, 0, 0},
		{1, 1, 0xF1, 0xF1},
		{2, 2, 0xF102, 0x02F1},
		{3, 3, 0xF10283, 0x8302F1},
		{4, 4, 0xF1028304, 0x048302F1},
		{5, 5, 0xF102830405, 0x05048302F1},
		{6, 6, 0xF10283040506, 0x0605048302F1},
		{7, 7, 0xF1028304050607, 0x070605048302F1},
		{8, 8, 0xF102830405060788, 0x88070605048302F1},
		{9, 8, 0xF102830405060788, 0x88070605048302F1},
		{math.MaxInt, 8, 0xF102830405060788, 0x88070605048302F1},
	} {
		r, q := octet.Inner(text, 3), octet.Inner(text, 3)
		if big, small := r.Big(c.size), q.Small(c.size); big != c.big || small != c.small {
			t.Errorf("%d: Big %x, Small %x", c.size, big, small)
		}
		stands(t, "Big", r, 9-c.read, 3+c.read, api.Fault{})
		stands(t, "Small", q, 9-c.read, 3+c.read, api.Fault{})
	}
}

// P1.3: numbers of which too few bytes are left: as Take.
func TestNumbersCut(t *testing.T) {
	for have := range 8 {
		for _, size := range []int{have + 1, 8, 9, math.MaxInt} {
			r, q := octet.Inner("\x01\x02\x03\x04\x05\x06\x07\x08"[:have], 5), octet.Inner("\x01\x02\x03\x04\x05\x06\x07\x08"[:have], 5)
			if big, small := r.Big(size), q.Small(size); big != 0 || small != 0 {
				t.Errorf("%d of %d: Big %x, Small %x", size, have, big, small)
			}
			stands(t, "Big", r, 0, 5, malformed(5+have))
			stands(t, "Small", q, 0, 5, malformed(5+have))
			silent(t, "Big", r)
			silent(t, "Small", q)
		}
	}
}

// P1.3: four bytes of seven bits; one of 128 or more; too few.
func TestReadSafe(t *testing.T) {
	for _, c := range []struct {
		text     string
		want, at int
		f        api.Fault
	}{
		{"\x00\x00\x01\x01", 129, 14, api.Fault{}},
		{"\x00\x00\x00\x00\x05", 0, 14, api.Fault{}},
		{"\x01\x02\x03\x04\xff", 1<<21 + 2<<14 + 3<<7 + 4, 14, api.Fault{}},
		{"\x7f\x7f\x7f\x7f", 1<<28 - 1, 14, api.Fault{}},
		{"\x80\x00\x00\x00", 0, 14, malformed(10)},
		{"\x01\x80\x00\x00", 0, 14, malformed(11)},
		{"\x01\x00\x80\x00x", 0, 14, malformed(12)},
		{"\x01\x00\x00\x80", 0, 14, malformed(13)},
		{"\x01\xff\x01\xff", 0, 14, malformed(11)},
		{"\xff\xff\xff\xff", 0, 14, malformed(10)},
		{"", 0, 10, malformed(10)},
		{"\x01", 0, 10, malformed(11)},
		{"\x01\x01\x01", 0, 10, malformed(13)},
		{"\x80\x80\x80", 0, 10, malformed(13)},
	} {
		r := octet.Inner(c.text, 10)
		if got := r.Safe(); got != c.want {
			t.Errorf("Safe of %x = %d", c.text, got)
		}
		left := 10 + len(c.text) - c.at
		if c.f.Bad() {
			left = 0
		}
		stands(t, "Safe", r, left, c.at, c.f)
		if c.f.Bad() {
			silent(t, "Safe", r)
		}
	}
}

// P1.4: what must be there, and where it isn't.
func TestWant(t *testing.T) {
	for _, c := range []struct {
		s  string
		ok bool
		at int // of the next byte, or of the fault
	}{
		{"", true, 11},
		{"b", true, 12},
		{"bcb", true, 14},
		{"x", false, 11},
		{"a", false, 11},
		{"bx", false, 12},
		{"bcx", false, 13},
		{"bxxb", false, 12},
		{"bcbb", false, 14},
		{"bcb and more", false, 14},
		{"bcx and more", false, 13},
		{"xcb and more", false, 11},
		{"B", false, 11},
		{"b\x00", false, 12},
	} {
		r := octet.Inner("abcb", 10)
		r.Take(1)
		if got := r.Want(c.s); got != c.ok {
			t.Errorf("Want(%q) = %v", c.s, got)
		}
		if c.ok {
			stands(t, "Want", r, 14-c.at, c.at, api.Fault{})
		} else {
			stands(t, "Want", r, 0, 11, malformed(c.at))
			silent(t, "Want", r)
		}
	}
	r := octet.Inner("", 4)
	if !r.Want("") || r.Want("a") || r.Fault() != malformed(4) {
		t.Error(r.Fault())
	}
}

// P1.4: what stands ahead of an end; ends are looked for at each so manieth byte, from the next one on.
func TestUntil(t *testing.T) {
	for _, c := range []struct {
		text, end, want, rest string
	}{
		{"abc", "a", "", "bc"},
		{"abc", "b", "a", "c"},
		{"abc", "c", "ab", ""},
		{"abcb", "b", "a", "cb"},
		{"a\x00b", "\x00", "a", "b"},
		{"abc", "", "", "abc"},
		{"", "", "", ""},
		{"abc", "abc", "", ""},
		{"abcd", "cd", "ab", ""},
		{"\x00\x01\x00\x00\x05", "\x00\x00", "\x00\x01", "\x05"},
		{"\x01\x00\x00\x00\x00", "\x00\x00", "\x01\x00", "\x00"},
		{"\x00\x00\x00", "\x00\x00", "", "\x00"},
		{"xxxabcd", "abc", "xxx", "d"},
		{"xxabcdabcx", "abc", "xxabcd", "x"},
	} {
		for _, ahead := range []string{"", "!", "!!"} { // what was read ahead doesn't shift the places
			r := octet.Inner(ahead+c.text, 20)
			r.Take(len(ahead))
			if got := r.Until(c.end); got != c.want {
				t.Errorf("%q, Until(%q) = %q", c.text, c.end, got)
			}
			stands(t, "Until", r, len(c.rest), 20+len(ahead)+len(c.want)+len(c.end), api.Fault{})
			if s := r.Rest(); s != c.rest {
				t.Errorf("%q, behind %q: %q", c.text, c.end, s)
			}
		}
	}
}

// P1.4: no end, or none at the places that are looked at.
func TestUntilNone(t *testing.T) {
	for _, c := range []struct{ text, end string }{
		{"", "a"}, {"abc", "d"}, {"abc", "abcd"}, {"abc", "\x00"}, {"ab", "ba"},
		{"abc", "bc"}, {"\x01\x00\x00", "\x00\x00"}, {"\x01\x00\x00\x01", "\x00\x00"}, {"\x01\x00", "\x00\x00"},
		{"xabc", "abc"}, {"xxabc", "abc"}, {"xxabc.", "abc"}, {"xxxxabc..", "abc"},
	} {
		for _, ahead := range []string{"", "!", c.end} {
			r := octet.Inner(ahead+c.text, 20)
			r.Take(len(ahead))
			if got := r.Until(c.end); got != "" {
				t.Errorf("%q, Until(%q) = %q", c.text, c.end, got)
			}
			stands(t, "Until", r, 0, 20+len(ahead), malformed(20+len(ahead)+len(c.text)))
			silent(t, "Until", r)
		}
	}
}

// P1.5: what is written is read as it was.
func TestWrittenIsRead(t *testing.T) {
	for _, n := range []uint64{0, 1, 127, 128, 255, 256, 0x1234, 0xFEDC, 0x123456, 0x89ABCDEF, 1<<28 - 1, 1 << 28, 1 << 31, 1 << 32, 0x0123456789ABCDEF, 1 << 63, math.MaxInt64, math.MaxUint64} {
		for size := -1; size <= 9; size++ {
			want := n
			if size < 8 {
				want = n % (1 << (8 * max(size, 0)))
			}
			big, small := octet.Read(octet.Big(n, size)), octet.Read(octet.Small(n, size))
			if big.Big(size) != want || big.Fault().Bad() || big.Left() != 0 {
				t.Errorf("Big of %x in %d bytes", n, size)
			}
			if small.Small(size) != want || small.Fault().Bad() || small.Left() != 0 {
				t.Errorf("Small of %x in %d bytes", n, size)
			}
		}
	}
	for n := uint64(0); n <= api.MaxSafe; n += 1 + n/7 {
		s, ok := octet.Safe(n)
		r := octet.Read(s)
		if got := r.Safe(); !ok || uint64(got) != n || r.Fault().Bad() || r.Left() != 0 {
			t.Errorf("Safe of %d: %d, %v", n, got, r.Fault())
		}
	}
}

// steps are what may be done with a reader; each answers the bytes that were read by it.
func steps(text string) []func(r *octet.In) string {
	number := func(size int, read func(int) uint64, write func(uint64, int) string) string {
		return write(read(size), size)
	}
	return []func(r *octet.In) string{
		func(r *octet.In) string { return r.Take(1) },
		func(r *octet.In) string { return r.Take(2) },
		func(r *octet.In) string { return r.Rest() },
		func(r *octet.In) string { r.Peek(3); return "" },
		func(r *octet.In) string { return number(2, r.Big, octet.Big) },
		func(r *octet.In) string { return number(3, r.Small, octet.Small) },
		func(r *octet.In) string { s, _ := octet.Safe(uint64(r.Safe())); return s },
		func(r *octet.In) string { r.Want(text[:1]); return text[:1] },
		func(r *octet.In) string { return r.Until("\x00") + "\x00" },
		func(r *octet.In) string { return r.Until("\x00\x01") + "\x00\x01" },
		func(r *octet.In) string { return r.Until("") },
	}
}

// P1.5: whatever is done, all that is read is the text from its beginning on, and never more than that.
func TestNothingBehindTheText(t *testing.T) {
	const base = 5
	for _, text := range []string{"\x00", "\x00\x01", "\x01\x00\x01", "\x00\x01\x00\x01", "\x01\x80\x00\x01\x00\x02"} {
		all := steps(text)
		for i := range all {
			for j := range all {
				for k := range all {
					r := octet.Inner(text, base)
					got := ""
					for _, step := range []int{i, j, k} {
						read := all[step](r)
						if r.Fault().Bad() {
							break
						}
						got += read
						if r.At() != base+len(got) || r.Left() != len(text)-len(got) || got != text[:len(got)] {
							t.Fatalf("%q, steps %d %d %d: read %q, at %d, left %d", text, i, j, k, got, r.At(), r.Left())
						}
					}
					if f := r.Fault(); f.Bad() && (f.Errno != api.ErrMalformed || f.At < base || f.At > base+len(text) || r.At() > base+len(text)) {
						t.Fatalf("%q, steps %d %d %d: %v, at %d", text, i, j, k, f, r.At())
					}
				}
			}
		}
	}
}

// R5: two readers of one text don't know of each other.
func TestReadersAreTheirOwn(t *testing.T) {
	r, q := octet.Read("abc"), octet.Read("abc")
	r.Take(2)
	stands(t, "the other one", q, 3, 0, api.Fault{})
	q.Fail(api.ErrArg, 1)
	stands(t, "the one", r, 1, 2, api.Fault{})
	inner := octet.Inner(r.Peek(1), r.At())
	inner.Take(9)
	stands(t, "the inner one", inner, 0, 2, malformed(3))
	stands(t, "the outer one", r, 1, 2, api.Fault{})
}
