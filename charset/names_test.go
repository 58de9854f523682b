package charset_test

import (
	"slices"
	"strings"
	"testing"

	"diacritic/api"
	"diacritic/charset"
)

// told are all charsets' names, as the chapter tells them: each line's number is its charset's.
const told = `latin1, iso-8859-1, latin-1
koi8-r, koi8r
koi8-u, koi8u
cp866, ibm866
cp949, euc-kr, uhc
johab, cp1361
big5-hkscs, big5
utf-8, utf8
utf-16le, utf16le
utf-16be, utf16be`

// all are all charsets.
var all = []api.Charset{api.Latin1, api.KOI8R, api.KOI8U, api.CP866, api.CP949, api.Johab, api.Big5, api.UTF8, api.UTF16L, api.UTF16B}

// far are numbers that are no charset's.
var far = []api.Charset{-1 << 63, -1<<63 + 7, -1 << 32, -256, -10, -2, -1, 10, 11, 255, 256, 263, 1 << 16, 1 << 32, 1<<32 + 7, 1 << 62, 1<<63 - 1}

// namesOf are a charset's names.
func namesOf(c api.Charset) []string {
	return strings.Split(strings.Split(told, "\n")[c], ", ")
}

// P9.1: which numbers are charsets, which of these are legacy ones, their names.
func TestNumbers(t *testing.T) {
	for c := api.Charset(-300); c <= 300; c++ {
		there := slices.Contains(all, c)
		if charset.Right(c) != there || charset.Legacy(c) != (there && c < 7) {
			t.Errorf("%d: Right %v, Legacy %v", c, charset.Right(c), charset.Legacy(c))
		}
		name := "none"
		if there {
			name = namesOf(c)[0]
		}
		if got := charset.Name(c); got != name {
			t.Errorf("Name(%d) = %q, not %q", c, got, name)
		}
	}
	for _, c := range far {
		if charset.Right(c) || charset.Legacy(c) || charset.Name(c) != "none" {
			t.Errorf("%d: %v, %v, %q", c, charset.Right(c), charset.Legacy(c), charset.Name(c))
		}
	}
}

// named holds what Named answers against what it should.
func named(t *testing.T, label string, want api.Charset, there bool) {
	t.Helper()
	if c, ok := charset.Named(label); c != want || ok != there {
		t.Errorf("Named(%+q) = %d, %v; not %d, %v", label, c, ok, want, there)
	}
}

// P9.1: all names, in small letters, in capitals, in both.
func TestNamed(t *testing.T) {
	for _, c := range all {
		for _, name := range namesOf(c) {
			named(t, name, c, true)
			named(t, strings.ToUpper(name), c, true)
			named(t, strings.ToUpper(name[:1])+name[1:], c, true)
			named(t, name[:1]+strings.ToUpper(name[1:]), c, true)
		}
	}
	named(t, "UTF8", api.UTF8, true)
	named(t, "Big5", api.Big5, true)
	named(t, "Iso-8859-1", api.Latin1, true)
	named(t, "eUc-kR", api.CP949, true)
	named(t, "UHC", api.CP949, true)
}

// asTold is the charset that has a label, as the chapter tells it.
func asTold(label string) (api.Charset, bool) {
	b := []byte(label)
	for i, x := range b {
		if strings.IndexByte("ABCDEFGHIJKLMNOPQRSTUVWXYZ", x) >= 0 {
			b[i] = x + 32
		}
	}
	for _, c := range all {
		if slices.Contains(namesOf(c), string(b)) {
			return c, true
		}
	}
	return 0, false
}

// nearly are all labels that have one byte less, another one, or one more than a name.
func nearly(name string) []string {
	var l []string
	for at := range name {
		l = append(l, name[:at]+name[at+1:])
	}
	for x := range 256 {
		b := string([]byte{byte(x)})
		for at := range name {
			l = append(l, name[:at]+b+name[at+1:], name[:at]+b+name[at:])
		}
		l = append(l, name+b)
	}
	return l
}

// P9.1: what is nearly a name.
func TestNearlyNamed(t *testing.T) {
	for _, c := range all {
		for _, name := range namesOf(c) {
			for _, label := range nearly(name) {
				is, there := asTold(label)
				named(t, label, is, there)
			}
		}
	}
}

// P9.1: what no charset is called; the only capitals are A to Z.
func TestNotNamed(t *testing.T) {
	for _, label := range []string{
		"", " ", "none", "NONE", "0", "7", "-", "utf", "utf-", "utf-7", "utf-16", "utf16", " utf-8", "utf-8 ", "utf_8", "\ufeffutf-8", "utf-8utf-8",
		"latin", "latin2", "latin 1", "latin1, iso-8859-1", "l1", "iso8859-1", "iso-8859-2", "iso_8859-1", "koi8", "koi-8-r", "866", "cp-866", "949", "ms949", "euckr", "1361", "big-5", "big5hkscs", "hkscs",
		"\u212aoi8-r", "\u212aOI8R", "euc-\u212ar", "i\u017fo-8859-1", "big5-hk\u017fcs", "lat\u0131n1", "LAT\u0130N1", "\uff4boi8-r", "\uff2boi8-r", "koi8\u2010r", "\u0443hc", "uh\u0421",
		"\xff", "utf8\xff", "\xc1", "\xe1tf8", strings.Repeat("utf-8", 1000),
	} {
		named(t, label, 0, false)
	}
}
