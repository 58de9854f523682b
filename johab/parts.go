package johab

// none is an initial or a medial that isn't there; the final that isn't there is 0, as in syllables.
const none = -1

// parts are what two bytes tell, and what a sign is made of.
type parts struct{ initial, medial, final int }

// partsOf are the parts that a code of sixteen bits tells; false: it tells none.
func partsOf(code int) (parts, bool) {
	i, first := initialOf(code >> 10 & 31)
	m, second := medialOf(code >> 5 & 31)
	f, third := finalOf(code & 31)
	return parts{i, m, f}, code>>15 == 1 && first && second && third
}

// code is the code that tells these parts.
func (p parts) code() int {
	return 1<<15 | initialCode(p.initial)<<10 | medialCode(p.medial)<<5 | finalCode(p.final)
}

// sign is the sign of parts that are each there or none; false: together they have none.
func (p parts) sign() (rune, bool) {
	switch {
	case p.initial != none && p.medial != none:
		return Syllable(p.initial, p.medial, p.final)
	case p.medial != none && p.final == 0:
		return rune(vowels + p.medial), true
	case p.initial != none && p.final == 0:
		return consonant('A' + p.initial)
	case p.initial == none && p.medial == none && p.final != 0:
		return consonant('a' + p.final)
	}
	return 0, false
}

// partsIn are the parts of which a sign is made; false: it isn't one of this charset's.
func partsIn(p rune) (parts, bool) {
	switch {
	case p >= syllables && p < syllables+initials*medials*finals:
		n := int(p - syllables)
		return parts{n / finals / medials, n / finals % medials, n % finals}, true
	case p >= vowels && p < vowels+medials:
		return parts{none, int(p - vowels), 0}, true
	case p >= consonants && p < consonants+rune(len(alone)):
		return partsAlone(int(alone[p-consonants])), true
	}
	return parts{}, false
}

// partsAlone are the parts of a consonant by its letter of alone.
func partsAlone(letter int) parts {
	if letter >= 'a' {
		return parts{none, none, letter - 'a'}
	}
	return parts{letter - 'A', none, 0}
}

// initialOf is the initial, or none, of five bits; false: they are no code.
func initialOf(code int) (int, bool) { return code - 2, code >= 1 && code <= 20 }

// initialCode is the code of an initial, or of none.
func initialCode(i int) int { return i + 2 }

// medialOf is the medial, or none, of five bits; false: they are no code. Of each eight codes the first two aren't there.
func medialOf(code int) (int, bool) {
	return code/8*6 + code%8 - 3, code%8 >= 2 && code <= 29
}

// medialCode is the code of a medial, or of none.
func medialCode(m int) int { return (m+1)/6*8 + (m+1)%6 + 2 }

// finalOf is the final, 0 as none, of five bits; false: they are no code. 18 is none, though it stands among others that are.
func finalOf(code int) (int, bool) {
	switch {
	case code >= 1 && code <= 17:
		return code - 1, true
	case code >= 19 && code <= 29:
		return code - 2, true
	}
	return 0, false
}

// finalCode is the code of a final, 0 as none.
func finalCode(f int) int {
	if f <= 16 {
		return f + 1
	}
	return f + 2
}
