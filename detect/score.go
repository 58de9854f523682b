package detect

import (
	"diacritic/api"
	"diacritic/charset"
	"diacritic/wansung"
)

// Score is how likely bytes are a text in a legacy charset; false: they are none.
func Score(c api.Charset, b string) (int, bool) {
	if !charset.Legacy(c) {
		return 0, false
	}
	t, f := charset.Decode(c, b)
	if f.Bad() {
		return 0, false
	}
	return score(c, t), true
}

// score is how likely a text is what its bytes meant in a charset.
func score(c api.Charset, t string) int {
	sum, last := 0, rune(0)
	for _, p := range t {
		sum += weight(c, p)
		if small(last) && capital(p) { // words seldom turn to capitals within; in a wrong Cyrillic charset they often do
			sum -= 3
		}
		last = p
	}
	return sum
}

// weight is how likely a sign is in a charset's texts.
func weight(c api.Charset, p rune) int {
	if p < 0x80 {
		return plain(p)
	}
	switch c {
	case api.Latin1:
		return latin(p)
	case api.KOI8R, api.KOI8U, api.CP866:
		return cyrillic(p)
	case api.Big5:
		return chinese(p)
	}
	return korean(p)
}

// plain is the weight of a sign that is the same in all charsets.
func plain(p rune) int {
	if p == 0x7F || p < ' ' && p != '\t' && p != '\n' && p != '\r' {
		return -6
	}
	return 0
}

func latin(p rune) int {
	switch {
	case p < 0xA0:
		return -8
	case p <= 0xBF, p == 0xD7, p == 0xF7: // no letters, but what stands for other things
		return -1
	}
	return 1
}

func cyrillic(p rune) int {
	switch {
	case small(p):
		return 4
	case capital(p):
		return 2
	}
	return -4
}

func chinese(p rune) int {
	if p >= 0x4E00 && p <= 0x9FFF {
		return 5
	}
	return 1
}

func korean(p rune) int {
	_, rows, syllable := wansung.Rank(p)
	switch {
	case rows:
		return 6
	case syllable:
		return 2
	case p >= 0x3131 && p <= 0x318E: // letters alone, which hardly any word has
		return -2
	}
	return 1
}

// small says whether a sign is a small letter of those that are written in KOI8 and CP866.
func small(p rune) bool { return p >= 0x430 && p <= 0x45F || p == 0x491 }

// capital says whether a sign is a capital of these letters.
func capital(p rune) bool { return p >= 0x400 && p <= 0x42F || p == 0x490 }
