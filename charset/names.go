package charset

import (
	"strings"

	"diacritic/api"
)

// naming is a name, and whose it is.
type naming struct {
	name    string
	charset api.Charset
}

// namings are all names, in small letters; of a charset's the first one is the one that is told.
var namings = [...]naming{
	{"latin1", api.Latin1}, {"iso-8859-1", api.Latin1}, {"latin-1", api.Latin1},
	{"koi8-r", api.KOI8R}, {"koi8r", api.KOI8R},
	{"koi8-u", api.KOI8U}, {"koi8u", api.KOI8U},
	{"cp866", api.CP866}, {"ibm866", api.CP866},
	{"cp949", api.CP949}, {"euc-kr", api.CP949}, {"uhc", api.CP949},
	{"johab", api.Johab}, {"cp1361", api.Johab},
	{"big5-hkscs", api.Big5}, {"big5", api.Big5},
	{"utf-8", api.UTF8}, {"utf8", api.UTF8},
	{"utf-16le", api.UTF16L}, {"utf16le", api.UTF16L},
	{"utf-16be", api.UTF16B}, {"utf16be", api.UTF16B},
}

// nameless is what is told where there is no charset.
const nameless = "none"

// Name is a charset's name.
func Name(c api.Charset) string {
	for _, n := range namings {
		if n.charset == c {
			return n.name
		}
	}
	return nameless
}

// Named is the charset of a name; false: there is none.
func Named(label string) (api.Charset, bool) {
	wanted := strings.Map(small, label)
	for _, n := range namings {
		if n.name == wanted {
			return n.charset, true
		}
	}
	return 0, false
}

// small makes A to Z small, and nothing else: Unicode has other capitals whose small letters are among a to z.
func small(p rune) rune {
	if p >= 'A' && p <= 'Z' {
		return p - 'A' + 'a'
	}
	return p
}
