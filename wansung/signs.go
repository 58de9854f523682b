package wansung

import (
	"strings"
	"unicode/utf8"

	"diacritic/run"
)

// rowA1 are the signs of the row A1, from its first cell on.
const rowA1 = "\u3000\u3001\u3002\u00b7\u2025\u2026\u00a8\u3003\u00ad\u2015\u2225\uff3c\u223c\u2018\u2019\u201c" +
	"\u201d\u3014\u3015\u3008\u3009\u300a\u300b\u300c\u300d\u300e\u300f\u3010\u3011\u00b1\u00d7\u00f7" +
	"\u2260\u2264\u2265\u221e\u2234\u00b0\u2032\u2033\u2103\u212b\uffe0\uffe1\uffe5\u2642\u2640\u2220" +
	"\u22a5\u2312\u2202\u2207\u2261\u2252\u00a7\u203b\u2606\u2605\u25cb\u25cf\u25ce\u25c7\u25c6\u25a1" +
	"\u25a0\u25b3\u25b2\u25bd\u25bc\u2192\u2190\u2191\u2193\u2194\u3013\u226a\u226b\u221a\u223d\u221d" +
	"\u2235\u222b\u222c\u2208\u220b\u2286\u2287\u2282\u2283\u222a\u2229\u2227\u2228\uffe2"

// rowA2 are the signs of the row A2, from its first cell on.
const rowA2 = "\u21d2\u21d4\u2200\u2203\u00b4\uff5e\u02c7\u02d8\u02dd\u02da\u02d9\u00b8\u02db\u00a1\u00bf\u02d0" +
	"\u222e\u2211\u220f\u00a4\u2109\u2030\u25c1\u25c0\u25b7\u25b6\u2664\u2660\u2661\u2665\u2667\u2663" +
	"\u2299\u25c8\u25a3\u25d0\u25d1\u2592\u25a4\u25a5\u25a8\u25a7\u25a6\u25a9\u2668\u260f\u260e\u261c" +
	"\u261e\u00b6\u2020\u2021\u2195\u2197\u2199\u2196\u2198\u266d\u2669\u266a\u266c\u327f\u321c\u2116" +
	"\u33c7\u2122\u33c2\u33d8\u2121\u20ac\u00ae"

// rowA6 are the signs of the row A6, from its first cell on.
const rowA6 = "\u2500\u2502\u250c\u2510\u2518\u2514\u251c\u252c\u2524\u2534\u253c\u2501\u2503\u250f\u2513\u251b" +
	"\u2517\u2523\u2533\u252b\u253b\u254b\u2520\u252f\u2528\u2537\u253f\u251d\u2530\u2525\u2538\u2542" +
	"\u2512\u2511\u251a\u2519\u2516\u2515\u250e\u250d\u251e\u251f\u2521\u2522\u2526\u2527\u2529\u252a" +
	"\u252d\u252e\u2531\u2532\u2535\u2536\u2539\u253a\u253d\u253e\u2540\u2541\u2543\u2544\u2545\u2546" +
	"\u2547\u2548\u2549\u254a"

// lists are the pieces whose signs follow no rule.
func lists() []run.Piece {
	return []run.Piece{run.List(0xA1A1, rowA1), run.List(0xA2A1, rowA2), run.List(0xA6A1, rowA6)}
}

// spans are the pieces whose signs follow one another: an array, for it is looked through for each sign, and a list would be new memory each time.
func spans() [19]run.Piece {
	return [...]run.Piece{
		run.Seq(0xA3A1, 0xFF01, 59), run.Seq(0xA3DC, 0xFFE6, 1), run.Seq(0xA3DD, 0xFF3D, 33), run.Seq(0xA3FE, 0xFFE3, 1),
		run.Seq(0xA4A1, 0x3131, 94),
		run.Seq(0xA5A1, 0x2170, 10), run.Seq(0xA5B0, 0x2160, 10),
		run.Seq(0xA5C1, 0x0391, 17), run.Seq(0xA5D2, 0x03A3, 7), run.Seq(0xA5E1, 0x03B1, 17), run.Seq(0xA5F2, 0x03C3, 7),
		run.Seq(0xAAA1, 0x3041, 83),
		run.Seq(0xABA1, 0x30A1, 86),
		run.Seq(0xACA1, 0x0410, 6), run.Seq(0xACA7, 0x0401, 1), run.Seq(0xACA8, 0x0416, 26),
		run.Seq(0xACD1, 0x0430, 6), run.Seq(0xACD7, 0x0451, 1), run.Seq(0xACD8, 0x0436, 26),
	}
}

// pairs are the codes and signs of pieces of which it is sure that they may be.
func pairs(pieces ...run.Piece) []run.Pair {
	t, _ := run.New(pieces...)
	return t.Pairs()
}

// signOf is the sign of a code in the rows that is no syllable's; false: there is none. A table of all pieces would answer this too, but making one costs far more than looking through them once.
func signOf(code int) (rune, bool) {
	for _, s := range spans() {
		if n := code - s.From; n >= 0 && n < s.Count {
			return s.To + rune(n), true
		}
	}
	for _, l := range lists() {
		if p, ok := nthSign(l.Text, code-l.From); ok {
			return p, true
		}
	}
	return 0, false
}

// nthSign is a sign of a text by its number, from 0 on; false: there is none.
func nthSign(text string, n int) (rune, bool) {
	for _, p := range text {
		if n == 0 {
			return p, true
		}
		n--
	}
	return 0, false
}

// codeOf is the code in the rows of a sign that is no syllable; false: there is none.
func codeOf(p rune) (int, bool) {
	for _, s := range spans() {
		if n := int(p) - int(s.To); n >= 0 && n < s.Count {
			return s.From + n, true
		}
	}
	for _, l := range lists() {
		if at := strings.IndexRune(l.Text, p); at >= 0 {
			return l.From + utf8.RuneCountInString(l.Text[:at]), true
		}
	}
	return 0, false
}
