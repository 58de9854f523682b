package detect_test

import (
	"math"
	"slices"
	"strings"
	"testing"

	"diacritic/api"
	"diacritic/charset"
	"diacritic/detect"
)

// order is what the chapter tells of it.
var order = []api.Charset{api.CP949, api.Big5, api.Johab, api.KOI8R, api.KOI8U, api.CP866, api.Latin1}

// P10.1: the order, in new memory each time.
func TestOrder(t *testing.T) {
	l := detect.Order()
	if !slices.Equal(l, order) {
		t.Errorf("Order() = %v", l)
	}
	clear(l)
	if l := detect.Order(); !slices.Equal(l, order) {
		t.Errorf("changed by who asked: %v", l)
	}
	l = append(detect.Order()[:3], 9)
	if m := detect.Order(); !slices.Equal(m, order) {
		t.Errorf("changed behind %v: %v", l, m)
	}
}

// guesses holds what Guess answers against what it should.
func guesses(t *testing.T, b string, want api.Charset, ok bool, l ...api.Charset) {
	t.Helper()
	kept := slices.Clone(l)
	if c, is := detect.Guess(b, l...); c != want || is != ok {
		t.Errorf("Guess(%x, %v) = %d, %v; not %d, %v", b, l, c, is, want, ok)
	}
	if !slices.Equal(l, kept) {
		t.Errorf("Guess(%x, %v) made %v of its charsets", b, kept, l)
	}
}

// P10.1: the chapter's example and ordinary texts, by the order.
func TestGuessOfTexts(t *testing.T) {
	for b, want := range map[string]api.Charset{
		"\xb0\xa1": api.CP949,
		"\xed\xcf\xd3\xcb\xd7\xc1, \xa3\xcc\xcb\xc1":                              api.KOI8R,
		"\xfd\xc5 \xce\xc5 \xd7\xcd\xc5\xd2\xcc\xc1 \xf5\xcb\xd2\xc1\xa7\xce\xc9": api.KOI8U,
		"\xad\xc1\xce\xcf\xcb":                                         api.KOI8U,
		"\x8f\xe0\xa8\xa2\xa5\xe2, \xac\xa8\xe0":                       api.CP866,
		"\xbe\xc8\xb3\xe7\xc7\xcf\xbc\xbc\xbf\xe4, \xbc\xbc\xb0\xe8 1": api.CP949,
		"\xb4\x61\xc3\xb1 \xb7\xa1\xaf\x69":                            api.Johab,
		"\xa4\x4a\xa4\x6b":                                             api.Big5,
		"\xd6":                                                         api.KOI8R, // 0436; KOI8-U has as much, and comes later
		"\xe9":                                                         api.CP866, // 0449, a small letter; a capital in KOI8-R
	} {
		guesses(t, b, want, true, order...)
	}
}

// P10.1: of several with the same score the first, wherever the others stand.
func TestFirstOfBest(t *testing.T) {
	const b = "\xc1\xc2" // 8 in both KOI8s
	guesses(t, b, api.KOI8R, true, api.KOI8R, api.KOI8U)
	guesses(t, b, api.KOI8U, true, api.KOI8U, api.KOI8R)
	guesses(t, b, api.KOI8U, true, api.Latin1, api.KOI8U, api.CP866, api.KOI8R, api.KOI8U)
	guesses(t, b, api.KOI8R, true, api.KOI8R, api.KOI8R, api.Latin1)
	guesses(t, b, api.Latin1, true, api.CP866, api.Latin1)
	guesses(t, b, api.Latin1, true, api.Latin1, api.CP866)
	guesses(t, "\xb0\xa1", api.CP949, true, api.Latin1, api.KOI8R, api.CP949)
	guesses(t, "\xe9", api.Latin1, true, api.Latin1)
	guesses(t, "\xe9", api.KOI8R, true, api.Latin1, api.KOI8R)
	guesses(t, "\xe9", api.KOI8R, true, api.KOI8R, api.Latin1)
	back := detect.Order()
	slices.Reverse(back)
	guesses(t, b, api.KOI8U, true, back...)
	guesses(t, strings.Repeat(b, 100_000), api.KOI8R, true, order...)
}

// P10.1: nothing is guessed where no score is above 0, or no charset handed in.
func TestNoGuess(t *testing.T) {
	for _, b := range []string{"", "a", "A song, 1", "\x00", "\x7f\x1f", "a\tb\r\n"} {
		guesses(t, b, 0, false, order...)
		guesses(t, b, 0, false)
		guesses(t, b, 0, false, api.KOI8R)
	}
	guesses(t, "\xb0\xa1", 0, false)
	guesses(t, "\xb0\xa1", 0, false, api.KOI8R, api.KOI8U, api.CP866)
	guesses(t, "\xe9\xa0", 0, false, api.Latin1) // 1 - 1
	guesses(t, "\xe9\xa0\xe9", api.Latin1, true, api.Latin1)
	guesses(t, "\xb0", 0, false, api.CP949, api.Big5, api.Johab)
	guesses(t, "\x80\x80", 0, false, api.CP949, api.Big5, api.Johab, api.KOI8R, api.KOI8U, api.Latin1)
	guesses(t, "\xd0\xb0\xc3\xa9", 0, false, notLegacy...)
	guesses(t, "ab\x00c", 0, false, notLegacy...)
	guesses(t, "\xc1", api.KOI8U, true, append(slices.Clone(notLegacy), api.KOI8U, 99)...)
}

// P10.1: what is guessed of all pairs of bytes is the first of the best scores.
func TestGuessOfPairs(t *testing.T) {
	for code := 0x8000; code < 0x10000; code += 23 {
		b := string([]byte{byte(code >> 8), byte(code)})
		best, at := 0, -1
		for i, c := range order {
			if n, ok := detect.Score(c, b); ok && n > best {
				best, at = n, i
			}
		}
		if at < 0 {
			guesses(t, b, 0, false, order...)
		} else {
			guesses(t, b, order[at], true, order...)
		}
	}
}

// marks are those that there are.
var marks = map[string]api.Charset{"\xef\xbb\xbf": api.UTF8, "\xff\xfe": api.UTF16L, "\xfe\xff": api.UTF16B}

// P10.2: marks, what stands behind them, what is nearly one, and what isn't ahead.
func TestMark(t *testing.T) {
	holds := func(b string, want api.Charset, size int) {
		t.Helper()
		if c, n := detect.Mark(b); c != want || n != size {
			t.Errorf("Mark(%x) = %d, %d; not %d, %d", b, c, n, want, size)
		}
	}
	for m, c := range marks {
		for _, s := range []string{"", "\x00", "a", "\xff\xfe", "\xef\xbb\xbf", "\x00\x00", "abc"} {
			holds(m+s, c, len(m))
			holds("a"+m+s, 0, 0)
			holds("\x00"+m+s, 0, 0)
		}
		for i := range m {
			holds(m[:i], 0, 0)
			for x := range 256 {
				if near := m[:i] + string([]byte{byte(x)}) + m[i+1:]; near != m && !(near[0] == 0xFF && near[1] == 0xFE) {
					holds(near, 0, 0)
				}
			}
		}
	}
	for code := range 0x10000 {
		b := string([]byte{byte(code >> 8), byte(code)})
		c, size := marks[b], 2
		if c == 0 {
			size = 0
		}
		holds(b, c, size)
		holds(b+"ab", c, size)
	}
	holds("\xfe", 0, 0)
	holds("\xff", 0, 0)
}

// resolves holds what Resolve answers against what it should.
func resolves(t *testing.T, b, declared string, o api.Options, want api.Charset) {
	t.Helper()
	if c := detect.Resolve(b, declared, o); c != want {
		t.Errorf("Resolve(%x, %q, %v) = %d, not %d", b, declared, o, c, want)
	}
}

// all are options with and without guessing, with all that may be left, no charsets too.
func all() []api.Options {
	var l []api.Options
	for c := api.Charset(-2); c <= 12; c++ {
		l = append(l, api.Options{Fallback: c}, api.Options{Fallback: c, Detect: true, Kind: api.LRC, Budget: -1})
	}
	return append(l, api.Options{Fallback: math.MinInt, Detect: true}, api.Options{Fallback: math.MaxInt})
}

// P10.2, P10.3: what is made of signs is taken as such, whatever is declared, guessed or left.
func TestSigns(t *testing.T) {
	for _, o := range all() {
		for _, declared := range []string{"", "none", "koi8-r", "latin1", "cp949", "utf-16le", "UTF8"} {
			for _, b := range []string{"", "a", "\x00", "A song", "\xc3\xa9", "\xd0\xb0\xd0\xb1", "\xea\xb0\x80", "\xf0\x9f\x98\x80", "\xef\xbb\xbfa", "\xef\xbf\xbd"} {
				resolves(t, b, declared, o, api.UTF8)
			}
		}
	}
}

// noSigns are texts that aren't made of signs.
var noSigns = []string{"\xc1", "\xb0\xa1", "\xff", "a\x80", "\xc3", "\xc3\xa9\xe9", "\xc0\x80", "\xed\xa0\x80", "\xf4\x90\x80\x80", "\xff\xfea\x00", "a\xef\xbb"}

// P10.2: all that isn't made of signs is in the charset whose name is declared.
func TestDeclared(t *testing.T) {
	for declared, want := range map[string]api.Charset{
		"latin1": api.Latin1, "ISO-8859-1": api.Latin1, "koi8-r": api.KOI8R, "KOI8-R": api.KOI8R, "koi8u": api.KOI8U, "IBM866": api.CP866,
		"uhc": api.CP949, "EUC-KR": api.CP949, "CP1361": api.Johab, "Big5": api.Big5, "utf-8": api.UTF8, "UTF8": api.UTF8, "utf-16le": api.UTF16L, "UTF16BE": api.UTF16B,
	} {
		for _, o := range all() {
			for _, b := range noSigns {
				resolves(t, b, declared, o, want)
			}
		}
	}
}

// P10.2: what is neither made of signs nor declared is guessed, if it may be and can be; else it is what is left.
func TestUndeclared(t *testing.T) {
	for _, declared := range []string{"", "none", "no such", "koi8", " koi8-r", "koi8-r ", "utf-16", "\u212aoi8-r", "\xff"} {
		for _, o := range all() {
			for _, b := range noSigns {
				want := o.Fallback
				if c, ok := detect.Guess(b, order...); ok && o.Detect {
					want = c
				}
				resolves(t, b, declared, o, want)
			}
		}
	}
	guess, left := api.Options{Detect: true, Fallback: api.Johab}, api.Options{Fallback: api.Johab}
	resolves(t, "\xb0\xa1", "", guess, api.CP949)
	resolves(t, "\xc1\xc2", "", guess, api.KOI8R)
	resolves(t, "\x80\x80", "", api.Options{Detect: true, Fallback: api.Big5}, api.CP866)
	resolves(t, "\xff\x00\x00", "", guess, api.Johab) // no score is above 0
	resolves(t, "\xff\x00\x00", "", api.Options{Detect: true}, api.Latin1)
	resolves(t, "\xb0\xa1", "", left, api.Johab)
	resolves(t, "\xb0\xa1", "", api.Options{}, api.Latin1)
	resolves(t, "\xb0\xa1", "", api.Options{Fallback: -5}, -5)
}

// P10.3: texts in all charsets of all signs, too, are taken as signs if they are some.
func TestSignsOfAll(t *testing.T) {
	for p := rune(0); p <= api.MaxPoint; p += 13 {
		b, f := charset.Encode(api.UTF8, string(p))
		if f.Bad() {
			t.Fatal(f)
		}
		if c := detect.Resolve(b, "koi8-r", api.Options{Detect: true}); c != api.UTF8 {
			t.Errorf("Resolve(%x) = %d", b, c)
		}
	}
}
