package big5

import (
	"strings"
	"unicode/utf8"

	"diacritic/run"
)

// rowA1Low are the signs of the row A1, from its first cell on, ahead of the gap in the second bytes.
const rowA1Low = "\u3000\uff0c\u3001\u3002\uff0e\u2022\uff1b\uff1a\uff1f\uff01\ufe30\u2026\u2025\ufe50\uff64\ufe52" +
	"\u00b7\ufe54\ufe55\ufe56\ufe57\uff5c\u2013\ufe31\u2014\ufe33\u2574\ufe34\ufe4f\uff08\uff09\ufe35" +
	"\ufe36\uff5b\uff5d\ufe37\ufe38\u3014\u3015\ufe39\ufe3a\u3010\u3011\ufe3b\ufe3c\u300a\u300b\ufe3d" +
	"\ufe3e\u3008\u3009\ufe3f\ufe40\u300c\u300d\ufe41\ufe42\u300e\u300f\ufe43\ufe44\ufe59\ufe5a"

// rowA1High are those behind it.
const rowA1High = "\ufe5b\ufe5c\ufe5d\ufe5e\u2018\u2019\u201c\u201d\u301d\u301e\u2035\u2032\uff03\uff06\uff0a\u203b" +
	"\u00a7\u3003\u25cb\u25cf\u25b3\u25b2\u25ce\u2606\u2605\u25c7\u25c6\u25a1\u25a0\u25bd\u25bc\u32a3" +
	"\u2105\u203e\uffe3\uff3f\u02cd\ufe49\ufe4a\ufe4d\ufe4e\ufe4b\ufe4c\ufe5f\ufe60\ufe61\uff0b\uff0d" +
	"\u00d7\u00f7\u00b1\u221a\uff1c\uff1e\uff1d\u2266\u2267\u2260\u221e\u2252\u2261\ufe62\ufe63\ufe64" +
	"\ufe65\ufe66\u223c\u2229\u222a\u22a5\u2220\u221f\u22bf\u33d2\u33d1\u222b\u222e\u2235\u2234\u2640" +
	"\u2642\u2641\u2609\u2191\u2193\u2190\u2192\u2196\u2197\u2199\u2198\u2225\u2223\uff0f"

// rowA3Low are the signs of the row A3, from its first cell on, ahead of the gap in the second bytes.
const rowA3Low = "\uff57\uff58\uff59\uff5a\u0391\u0392\u0393\u0394\u0395\u0396\u0397\u0398\u0399\u039a\u039b\u039c" +
	"\u039d\u039e\u039f\u03a0\u03a1\u03a3\u03a4\u03a5\u03a6\u03a7\u03a8\u03a9\u03b1\u03b2\u03b3\u03b4" +
	"\u03b5\u03b6\u03b7\u03b8\u03b9\u03ba\u03bb\u03bc\u03bd\u03be\u03bf\u03c0\u03c1\u03c3\u03c4\u03c5" +
	"\u03c6\u03c7\u03c8\u03c9\u3105\u3106\u3107\u3108\u3109\u310a\u310b\u310c\u310d\u310e\u310f"

// rowA3High are those behind it.
const rowA3High = "\u3110\u3111\u3112\u3113\u3114\u3115\u3116\u3117\u3118\u3119\u311a\u311b\u311c\u311d\u311e\u311f" +
	"\u3120\u3121\u3122\u3123\u3124\u3125\u3126\u3127\u3128\u3129\u02d9\u02c9\u02ca\u02c7\u02cb"

// rowA4Low are the signs of the row A4, from its first cell on, ahead of the gap in the second bytes.
const rowA4Low = "\u4e00\u4e59\u4e01\u4e03\u4e43\u4e5d\u4e86\u4e8c\u4eba\u513f\u5165\u516b\u51e0\u5200\u5201\u529b" +
	"\u5315\u5341\u535c\u53c8\u4e09\u4e0b\u4e08\u4e0a\u4e2b\u4e38\u51e1\u4e45\u4e48\u4e5f\u4e5e\u4e8e" +
	"\u4ea1\u5140\u5203\u52fa\u5343\u53c9\u53e3\u571f\u58eb\u5915\u5927\u5973\u5b50\u5b51\u5b53\u5bf8" +
	"\u5c0f\u5c22\u5c38\u5c71\u5ddd\u5de5\u5df1\u5df2\u5df3\u5dfe\u5e72\u5efe\u5f0b\u5f13\u624d"

// rowA4High are those behind it.
const rowA4High = "\u4e11\u4e10\u4e0d\u4e2d\u4e30\u4e39\u4e4b\u5c39\u4e88\u4e91\u4e95\u4e92\u4e94\u4ea2\u4ec1\u4ec0" +
	"\u4ec3\u4ec6\u4ec7\u4ecd\u4eca\u4ecb\u4ec4\u5143\u5141\u5167\u516d\u516e\u516c\u5197\u51f6\u5206" +
	"\u5207\u5208\u52fb\u52fe\u52ff\u5316\u5339\u5348\u5347\u5345\u535e\u5384\u53cb\u53ca\u53cd\u58ec" +
	"\u5929\u592b\u592a\u592d\u5b54\u5c11\u5c24\u5c3a\u5c6f\u5df4\u5e7b\u5eff\u5f14\u5f15\u5fc3\u6208" +
	"\u6236\u624b\u624e\u652f\u6587\u6597\u65a4\u65b9\u65e5\u66f0\u6708\u6728\u6b20\u6b62\u6b79\u6bcb" +
	"\u6bd4\u6bdb\u6c0f\u6c34\u706b\u722a\u7236\u723b\u7247\u7259\u725b\u72ac\u738b\u4e19"

// rowA5Low are the signs of the row A5, from its first cell on, ahead of the gap in the second bytes.
const rowA5Low = "\u4e16\u4e15\u4e14\u4e18\u4e3b\u4e4d\u4e4f\u4e4e\u4ee5\u4ed8\u4ed4\u4ed5\u4ed6\u4ed7\u4ee3\u4ee4" +
	"\u4ed9\u4ede\u5145\u5144\u5189\u518a\u51ac\u51f9\u51fa\u51f8\u520a\u52a0\u529f\u5305\u5306\u5317" +
	"\u531d\u4edf\u534a\u5349\u5361\u5360\u536f\u536e\u53bb\u53ef\u53e4\u53f3\u53ec\u53ee\u53e9\u53e8" +
	"\u53fc\u53f8\u53f5\u53eb\u53e6\u53ea\u53f2\u53f1\u53f0\u53e5\u53ed\u53fb\u56db\u56da\u5916"

// rowA5High are those behind it.
const rowA5High = "\u592e\u5931\u5974\u5976\u5b55\u5b83\u5c3c\u5de8\u5de7\u5de6\u5e02\u5e03\u5e73\u5e7c\u5f01\u5f18" +
	"\u5f17\u5fc5\u620a\u6253\u6254\u6252\u6251\u65a5\u65e6\u672e\u672c\u672a\u672b\u672d\u6b63\u6bcd" +
	"\u6c11\u6c10\u6c38\u6c41\u6c40\u6c3e\u72af\u7384\u7389\u74dc\u74e6\u7518\u751f\u7528\u7529\u7530" +
	"\u7531\u7532\u7533\u758b\u767d\u76ae\u76bf\u76ee\u77db\u77e2\u77f3\u793a\u79be\u7a74\u7acb\u4e1e" +
	"\u4e1f\u4e52\u4e53\u4e69\u4e99\u4ea4\u4ea6\u4ea5\u4eff\u4f09\u4f19\u4f0a\u4f15\u4f0d\u4f10\u4f11" +
	"\u4f0f\u4ef2\u4ef6\u4efb\u4ef0\u4ef3\u4efd\u4f01\u4f0b\u5149\u5147\u5146\u5148\u5168"

// lists are the codes of one sign, by rising codes: an array, for it is looked through for each sign, and a list would be new memory each time.
func lists() [14]run.Piece {
	return [...]run.Piece{
		run.List(0x8856, "\u0100\u00c1\u01cd\u00c0\u0112\u00c9\u011a\u00c8\u014c\u00d3\u01d1\u00d2"),
		run.List(0x8863, "\u1ebe"),
		run.List(0x8865, "\u1ec0\u00ca\u0101\u00e1\u01ce\u00e0\u0251\u0113\u00e9\u011b\u00e8\u012b\u00ed\u01d0\u00ec\u014d"+
			"\u00f3\u01d2\u00f2\u016b\u00fa\u01d4\u00f9\u01d6\u01d8\u01da"),
		run.List(0x88A1, "\u01dc\u00fc"),
		run.List(0x88A4, "\u1ebf"),
		run.List(0x88A6, "\u1ec1\u00ea\u0261"),
		run.List(0xA140, rowA1Low), run.List(0xA1A1, rowA1High),
		run.List(0xA340, rowA3Low), run.List(0xA3A1, rowA3High),
		run.List(0xA440, rowA4Low), run.List(0xA4A1, rowA4High),
		run.List(0xA540, rowA5Low), run.List(0xA5A1, rowA5High),
	}
}

// pairs are the codes and signs of pieces of which it is sure that they may be.
func pairs(pieces ...run.Piece) []run.Pair {
	t, _ := run.New(pieces...)
	return t.Pairs()
}

// signOf is the one sign of a code; false: it has none. A table of all pieces would answer this too, but making one costs far more than looking through them once.
func signOf(code int) (rune, bool) {
	var last run.Piece // that begins at the code, or ahead of it: no other one can have the code
	for _, l := range lists() {
		if l.From <= code {
			last = l
		}
	}
	return nthSign(last.Text, code-last.From)
}

// nthSign is a sign of a text by its number, from 0 on; false: there is none.
func nthSign(text string, n int) (rune, bool) {
	for _, p := range text {
		if n == 0 {
			return p, true
		}
		n--
	}
	return 0, false
}

// codeOf is the code of a sign that stands alone; false: there is none.
func codeOf(p rune) (int, bool) {
	for _, l := range lists() {
		if at := strings.IndexRune(l.Text, p); at >= 0 {
			return l.From + utf8.RuneCountInString(l.Text[:at]), true
		}
	}
	return 0, false
}
