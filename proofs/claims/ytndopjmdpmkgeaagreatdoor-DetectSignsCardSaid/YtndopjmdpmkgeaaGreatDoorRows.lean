/-
  NARROWER THAN 'FOR EVERY INPUT', by the rows' own cells (each row's printed sentence says how): DetectScores: laid · DetectGuesses: laid · DetectMarks: laid · DetectResolves: laid · DetectSums: laid · DetectSigns: laid.
  DERIVED. THE GIVEN ROWS OF THIS SEAT. 6 by the template 'for every input the law returns true; each argument reads behind the call as it read before'; 0 by the template 'total and deterministic' (their statements: YtndopjmdpmkgeaaGreatDoorTotals.lean).
  GIVEN WITH THE SEED: the statements are not yours to turn. If you find one false, say at which input.
  Laid BY PROGRAM, IN A SANDBOX (cutbox-rows.mjs): the forced cells as the released guide's own fill.sh prints them over the translation 407cb20c4bf9d79b… (all of the seat's roots in one cut). By AI agents, Wed Nov 11 2026. No macro, syntax, notation, axiom, sorry.
-/
import Derived.Test.YtndopjmdpmkgeaaGreatDoorChecked
import GoSem.PinnedTables
import GoSem.Claim
import GoSem.ClaimJoined
import GoSem.ClaimMapViews
import Derived.JoinedTies
import Derived.KernelRfl
namespace Go.Proofs.YtndopjmdpmkgeaaGreatDoor
/- THE CELL 'sum', in the pinned program and in every row, IS THE sha256 OF THE DUMP (.gsa) THAT YtndopjmdpmkgeaaGreatDoorProg.lean LOADS. Nothing in Lean hashes anything: it is a label: what it is worth is what the hold of that sum in a sandbox is worth. -/
noncomputable def Tryz.pinned : Pinned := { name := "ytndopjmdpmkgeaagreatdoor", sum := "407cb20c4bf9d79b89c506f0f1ca4f77c27295226ed90009f81308e9806d8702", checked := Tryz.checked }
namespace Rows
def none {H : Type} : Left H := { results := [], args := [] }

/- WHAT THE LISTED PACKAGE-LEVEL VARIABLES READ AS WHEN THE CALL BEGINS. Each datum BY PROGRAM (the guide's laid-datum.mjs) off the statement by which the dump's own 'gosem.cut.vars' lays the variable. In a bare row this is a premise. The card (YtndopjmdpmkgeaaGreatDoorCards.lean) ties it to the program's text. -/
def laid_math_bits_deBruijn32tab {H : Type} : DataW H := .agg [.lit (.int .u8 0), .lit (.int .u8 1), .lit (.int .u8 28), .lit (.int .u8 2), .lit (.int .u8 29), .lit (.int .u8 14), .lit (.int .u8 24), .lit (.int .u8 3), .lit (.int .u8 30), .lit (.int .u8 22), .lit (.int .u8 20), .lit (.int .u8 15), .lit (.int .u8 25), .lit (.int .u8 17), .lit (.int .u8 4), .lit (.int .u8 8), .lit (.int .u8 31), .lit (.int .u8 27), .lit (.int .u8 13), .lit (.int .u8 23), .lit (.int .u8 21), .lit (.int .u8 19), .lit (.int .u8 16), .lit (.int .u8 7), .lit (.int .u8 26), .lit (.int .u8 12), .lit (.int .u8 18), .lit (.int .u8 6), .lit (.int .u8 11), .lit (.int .u8 5), .lit (.int .u8 10), .lit (.int .u8 9)]
def laid_math_bits_deBruijn64tab {H : Type} : DataW H := .agg [.lit (.int .u8 0), .lit (.int .u8 1), .lit (.int .u8 56), .lit (.int .u8 2), .lit (.int .u8 57), .lit (.int .u8 49), .lit (.int .u8 28), .lit (.int .u8 3), .lit (.int .u8 61), .lit (.int .u8 58), .lit (.int .u8 42), .lit (.int .u8 50), .lit (.int .u8 38), .lit (.int .u8 29), .lit (.int .u8 17), .lit (.int .u8 4), .lit (.int .u8 62), .lit (.int .u8 47), .lit (.int .u8 59), .lit (.int .u8 36), .lit (.int .u8 45), .lit (.int .u8 43), .lit (.int .u8 51), .lit (.int .u8 22), .lit (.int .u8 53), .lit (.int .u8 39), .lit (.int .u8 33), .lit (.int .u8 30), .lit (.int .u8 24), .lit (.int .u8 18), .lit (.int .u8 12), .lit (.int .u8 5), .lit (.int .u8 63), .lit (.int .u8 55), .lit (.int .u8 48), .lit (.int .u8 27), .lit (.int .u8 60), .lit (.int .u8 41), .lit (.int .u8 37), .lit (.int .u8 16), .lit (.int .u8 46), .lit (.int .u8 35), .lit (.int .u8 44), .lit (.int .u8 21), .lit (.int .u8 52), .lit (.int .u8 32), .lit (.int .u8 23), .lit (.int .u8 11), .lit (.int .u8 54), .lit (.int .u8 26), .lit (.int .u8 40), .lit (.int .u8 15), .lit (.int .u8 34), .lit (.int .u8 20), .lit (.int .u8 31), .lit (.int .u8 10), .lit (.int .u8 25), .lit (.int .u8 14), .lit (.int .u8 19), .lit (.int .u8 9), .lit (.int .u8 13), .lit (.int .u8 8), .lit (.int .u8 7), .lit (.int .u8 6)]
def laid_internal_strconv_uint64pow10 {H : Type} : DataW H := .agg [.lit (.int .u64 1), .lit (.int .u64 10), .lit (.int .u64 100), .lit (.int .u64 1000), .lit (.int .u64 10000), .lit (.int .u64 100000), .lit (.int .u64 1000000), .lit (.int .u64 10000000), .lit (.int .u64 100000000), .lit (.int .u64 1000000000), .lit (.int .u64 10000000000), .lit (.int .u64 100000000000), .lit (.int .u64 1000000000000), .lit (.int .u64 10000000000000), .lit (.int .u64 100000000000000), .lit (.int .u64 1000000000000000), .lit (.int .u64 10000000000000000), .lit (.int .u64 100000000000000000), .lit (.int .u64 1000000000000000000), .lit (.int .u64 10000000000000000000)]
def laid_unicode_utf8_acceptRanges {H : Type} : DataW H := .agg [.agg [.lit (.int .u8 128), .lit (.int .u8 191)], .agg [.lit (.int .u8 160), .lit (.int .u8 191)], .agg [.lit (.int .u8 128), .lit (.int .u8 159)], .agg [.lit (.int .u8 144), .lit (.int .u8 191)], .agg [.lit (.int .u8 128), .lit (.int .u8 143)], .agg [.lit (.int .u8 0), .lit (.int .u8 0)], .agg [.lit (.int .u8 0), .lit (.int .u8 0)], .agg [.lit (.int .u8 0), .lit (.int .u8 0)], .agg [.lit (.int .u8 0), .lit (.int .u8 0)], .agg [.lit (.int .u8 0), .lit (.int .u8 0)], .agg [.lit (.int .u8 0), .lit (.int .u8 0)], .agg [.lit (.int .u8 0), .lit (.int .u8 0)], .agg [.lit (.int .u8 0), .lit (.int .u8 0)], .agg [.lit (.int .u8 0), .lit (.int .u8 0)], .agg [.lit (.int .u8 0), .lit (.int .u8 0)], .agg [.lit (.int .u8 0), .lit (.int .u8 0)]]
def laid_strconv_ErrRange {H : Type} : DataW H := .iface "*errors.errorString" (.ptr (.agg [.lit (.string [118, 97, 108, 117, 101, 32, 111, 117, 116, 32, 111, 102, 32, 114, 97, 110, 103, 101])]))
def laid_strconv_ErrSyntax {H : Type} : DataW H := .iface "*errors.errorString" (.ptr (.agg [.lit (.string [105, 110, 118, 97, 108, 105, 100, 32, 115, 121, 110, 116, 97, 120])]))
def laid_diacritic_big5_twins {H : Type} : DataW H := .agg [.agg [.lit (.int .i64 34914), .agg [.lit (.int .i32 202), .lit (.int .i32 772)]], .agg [.lit (.int .i64 34916), .agg [.lit (.int .i32 202), .lit (.int .i32 780)]], .agg [.lit (.int .i64 34979), .agg [.lit (.int .i32 234), .lit (.int .i32 772)]], .agg [.lit (.int .i64 34981), .agg [.lit (.int .i32 234), .lit (.int .i32 780)]]]
def laid_diacritic_wansung_ahead {H : Type} : DataW H := .agg [.lit (.int .i64 0), .lit (.int .i64 71), .lit (.int .i64 130), .lit (.int .i64 171), .lit (.int .i64 217), .lit (.int .i64 254), .lit (.int .i64 291), .lit (.int .i64 354), .lit (.int .i64 393), .lit (.int .i64 432), .lit (.int .i64 488), .lit (.int .i64 523), .lit (.int .i64 560), .lit (.int .i64 602), .lit (.int .i64 619), .lit (.int .i64 646), .lit (.int .i64 699), .lit (.int .i64 736), .lit (.int .i64 773), .lit (.int .i64 830), .lit (.int .i64 870), .lit (.int .i64 902), .lit (.int .i64 961), .lit (.int .i64 998), .lit (.int .i64 1031), .lit (.int .i64 1072), .lit (.int .i64 1089), .lit (.int .i64 1104), .lit (.int .i64 1173), .lit (.int .i64 1225), .lit (.int .i64 1267), .lit (.int .i64 1298), .lit (.int .i64 1327), .lit (.int .i64 1353), .lit (.int .i64 1434), .lit (.int .i64 1495), .lit (.int .i64 1561), .lit (.int .i64 1618), .lit (.int .i64 1661), .lit (.int .i64 1696), .lit (.int .i64 1732), .lit (.int .i64 1760), .lit (.int .i64 1778), .lit (.int .i64 1824), .lit (.int .i64 1856), .lit (.int .i64 1890), .lit (.int .i64 1936), .lit (.int .i64 1964), .lit (.int .i64 1997), .lit (.int .i64 2039), .lit (.int .i64 2066), .lit (.int .i64 2103), .lit (.int .i64 2150), .lit (.int .i64 2181), .lit (.int .i64 2208), .lit (.int .i64 2254), .lit (.int .i64 2299)]
def laid_diacritic_charset_namings {H : Type} : DataW H := .agg [.agg [.lit (.string [108, 97, 116, 105, 110, 49]), .lit (.int .i64 0)], .agg [.lit (.string [105, 115, 111, 45, 56, 56, 53, 57, 45, 49]), .lit (.int .i64 0)], .agg [.lit (.string [108, 97, 116, 105, 110, 45, 49]), .lit (.int .i64 0)], .agg [.lit (.string [107, 111, 105, 56, 45, 114]), .lit (.int .i64 1)], .agg [.lit (.string [107, 111, 105, 56, 114]), .lit (.int .i64 1)], .agg [.lit (.string [107, 111, 105, 56, 45, 117]), .lit (.int .i64 2)], .agg [.lit (.string [107, 111, 105, 56, 117]), .lit (.int .i64 2)], .agg [.lit (.string [99, 112, 56, 54, 54]), .lit (.int .i64 3)], .agg [.lit (.string [105, 98, 109, 56, 54, 54]), .lit (.int .i64 3)], .agg [.lit (.string [99, 112, 57, 52, 57]), .lit (.int .i64 4)], .agg [.lit (.string [101, 117, 99, 45, 107, 114]), .lit (.int .i64 4)], .agg [.lit (.string [117, 104, 99]), .lit (.int .i64 4)], .agg [.lit (.string [106, 111, 104, 97, 98]), .lit (.int .i64 5)], .agg [.lit (.string [99, 112, 49, 51, 54, 49]), .lit (.int .i64 5)], .agg [.lit (.string [98, 105, 103, 53, 45, 104, 107, 115, 99, 115]), .lit (.int .i64 6)], .agg [.lit (.string [98, 105, 103, 53]), .lit (.int .i64 6)], .agg [.lit (.string [117, 116, 102, 45, 56]), .lit (.int .i64 7)], .agg [.lit (.string [117, 116, 102, 56]), .lit (.int .i64 7)], .agg [.lit (.string [117, 116, 102, 45, 49, 54, 108, 101]), .lit (.int .i64 8)], .agg [.lit (.string [117, 116, 102, 49, 54, 108, 101]), .lit (.int .i64 8)], .agg [.lit (.string [117, 116, 102, 45, 49, 54, 98, 101]), .lit (.int .i64 9)], .agg [.lit (.string [117, 116, 102, 49, 54, 98, 101]), .lit (.int .i64 9)]]
/-- One of Go's own tables, pinned by name: the form's constant. -/
def laid_unicode_utf8_first : DataW Unit := Go.Pinned.utf8First

/-- 'diacriticlaw10.DetectScores': WHATEVER THE INPUT: true; the input reads as it did. -/
def detectScoresSpec : ChangeSpec := { name := "detectScores", fn := fun _ => fun
  | [d1, d2] => { results := [.lit (.bool true)], args := [d1, d2] }
  | _ => none }
def detectScoresRow : OpenClaim := { program := "ytndopjmdpmkgeaagreatdoor", sum := "407cb20c4bf9d79b89c506f0f1ca4f77c27295226ed90009f81308e9806d8702", func := "diacritic/diacriticlaw10.DetectScores", spec := "detectScores", inPlace := ["internal/bytealg.IndexByteString", "internal/abi.NoEscape", "internal/bytealg.MakeNoZero", "internal/bytealg.IndexString"], unfollowed := true, recurses := true, named := ["diacritic/wansung.ahead", "strconv.ErrSyntax", "strconv.ErrRange", "internal/strconv.uint64pow10", "math/bits.deBruijn32tab", "math/bits.deBruijn64tab", "diacritic/big5.twins", "unicode/utf8.first", "unicode/utf8.acceptRanges", "diacritic/charset.namings", "internal/bytealg.MaxLen"], apart := false, laid := [("math/bits.deBruijn32tab", laid_math_bits_deBruijn32tab), ("math/bits.deBruijn64tab", laid_math_bits_deBruijn64tab), ("internal/strconv.uint64pow10", laid_internal_strconv_uint64pow10), ("unicode/utf8.acceptRanges", laid_unicode_utf8_acceptRanges), ("strconv.ErrRange", laid_strconv_ErrRange), ("strconv.ErrSyntax", laid_strconv_ErrSyntax), ("diacritic/big5.twins", laid_diacritic_big5_twins), ("diacritic/wansung.ahead", laid_diacritic_wansung_ahead), ("diacritic/charset.namings", laid_diacritic_charset_namings), ("unicode/utf8.first", laid_unicode_utf8_first)] }
def DetectScoresSaid : Prop := detectScoresRow.holds Tryz.pinned (OpenSpec.ofChange detectScoresSpec)

/-- ITS FALSE NEIGHBOUR: 'it returns false'. Refute it at one input. -/
def detectScoresWrong : ChangeSpec := { name := "detectScores", fn := fun _ => fun
  | [d1, d2] => { results := [.lit (.bool false)], args := [d1, d2] }
  | _ => none }
def DetectScoresWrongFalsely : Prop := detectScoresRow.holds Tryz.pinned (OpenSpec.ofChange detectScoresWrong)

/-- 'diacriticlaw10.DetectGuesses': WHATEVER THE INPUT: true; the input reads as it did. -/
def detectGuessesSpec : ChangeSpec := { name := "detectGuesses", fn := fun _ => fun
  | [d1, d2] => { results := [.lit (.bool true)], args := [d1, d2] }
  | _ => none }
def detectGuessesRow : OpenClaim := { program := "ytndopjmdpmkgeaagreatdoor", sum := "407cb20c4bf9d79b89c506f0f1ca4f77c27295226ed90009f81308e9806d8702", func := "diacritic/diacriticlaw10.DetectGuesses", spec := "detectGuesses", inPlace := ["internal/bytealg.IndexByteString", "internal/abi.NoEscape", "internal/bytealg.MakeNoZero", "internal/bytealg.IndexString"], unfollowed := true, recurses := true, named := ["diacritic/wansung.ahead", "strconv.ErrSyntax", "strconv.ErrRange", "internal/strconv.uint64pow10", "math/bits.deBruijn32tab", "math/bits.deBruijn64tab", "diacritic/big5.twins", "unicode/utf8.first", "unicode/utf8.acceptRanges", "diacritic/charset.namings", "internal/bytealg.MaxLen"], apart := false, laid := [("math/bits.deBruijn32tab", laid_math_bits_deBruijn32tab), ("math/bits.deBruijn64tab", laid_math_bits_deBruijn64tab), ("internal/strconv.uint64pow10", laid_internal_strconv_uint64pow10), ("unicode/utf8.acceptRanges", laid_unicode_utf8_acceptRanges), ("strconv.ErrRange", laid_strconv_ErrRange), ("strconv.ErrSyntax", laid_strconv_ErrSyntax), ("diacritic/big5.twins", laid_diacritic_big5_twins), ("diacritic/wansung.ahead", laid_diacritic_wansung_ahead), ("diacritic/charset.namings", laid_diacritic_charset_namings), ("unicode/utf8.first", laid_unicode_utf8_first)] }
def DetectGuessesSaid : Prop := detectGuessesRow.holds Tryz.pinned (OpenSpec.ofChange detectGuessesSpec)

/-- ITS FALSE NEIGHBOUR: 'it returns false'. Refute it at one input. -/
def detectGuessesWrong : ChangeSpec := { name := "detectGuesses", fn := fun _ => fun
  | [d1, d2] => { results := [.lit (.bool false)], args := [d1, d2] }
  | _ => none }
def DetectGuessesWrongFalsely : Prop := detectGuessesRow.holds Tryz.pinned (OpenSpec.ofChange detectGuessesWrong)

/-- 'diacriticlaw10.DetectMarks': WHATEVER THE INPUT: true; the input reads as it did. -/
def detectMarksSpec : ChangeSpec := { name := "detectMarks", fn := fun _ => fun
  | [d] => { results := [.lit (.bool true)], args := [d] }
  | _ => none }
def detectMarksRow : OpenClaim := { program := "ytndopjmdpmkgeaagreatdoor", sum := "407cb20c4bf9d79b89c506f0f1ca4f77c27295226ed90009f81308e9806d8702", func := "diacritic/diacriticlaw10.DetectMarks", spec := "detectMarks", inPlace := ["internal/bytealg.IndexByteString", "internal/abi.NoEscape", "internal/bytealg.MakeNoZero", "internal/bytealg.IndexString"], unfollowed := true, recurses := true, named := ["diacritic/wansung.ahead", "strconv.ErrSyntax", "strconv.ErrRange", "internal/strconv.uint64pow10", "math/bits.deBruijn32tab", "math/bits.deBruijn64tab", "diacritic/big5.twins", "unicode/utf8.first", "unicode/utf8.acceptRanges", "diacritic/charset.namings", "internal/bytealg.MaxLen"], apart := false, laid := [("math/bits.deBruijn32tab", laid_math_bits_deBruijn32tab), ("math/bits.deBruijn64tab", laid_math_bits_deBruijn64tab), ("internal/strconv.uint64pow10", laid_internal_strconv_uint64pow10), ("unicode/utf8.acceptRanges", laid_unicode_utf8_acceptRanges), ("strconv.ErrRange", laid_strconv_ErrRange), ("strconv.ErrSyntax", laid_strconv_ErrSyntax), ("diacritic/big5.twins", laid_diacritic_big5_twins), ("diacritic/wansung.ahead", laid_diacritic_wansung_ahead), ("diacritic/charset.namings", laid_diacritic_charset_namings), ("unicode/utf8.first", laid_unicode_utf8_first)] }
def DetectMarksSaid : Prop := detectMarksRow.holds Tryz.pinned (OpenSpec.ofChange detectMarksSpec)

/-- ITS FALSE NEIGHBOUR: 'it returns false'. Refute it at one input. -/
def detectMarksWrong : ChangeSpec := { name := "detectMarks", fn := fun _ => fun
  | [d] => { results := [.lit (.bool false)], args := [d] }
  | _ => none }
def DetectMarksWrongFalsely : Prop := detectMarksRow.holds Tryz.pinned (OpenSpec.ofChange detectMarksWrong)

/-- 'diacriticlaw10.DetectResolves': WHATEVER THE INPUT: true; the input reads as it did. -/
def detectResolvesSpec : ChangeSpec := { name := "detectResolves", fn := fun _ => fun
  | [d1, d2, d3, d4] => { results := [.lit (.bool true)], args := [d1, d2, d3, d4] }
  | _ => none }
def detectResolvesRow : OpenClaim := { program := "ytndopjmdpmkgeaagreatdoor", sum := "407cb20c4bf9d79b89c506f0f1ca4f77c27295226ed90009f81308e9806d8702", func := "diacritic/diacriticlaw10.DetectResolves", spec := "detectResolves", inPlace := ["internal/bytealg.IndexByteString", "internal/abi.NoEscape", "internal/bytealg.MakeNoZero", "internal/bytealg.IndexString"], unfollowed := true, recurses := true, named := ["diacritic/wansung.ahead", "strconv.ErrSyntax", "strconv.ErrRange", "internal/strconv.uint64pow10", "math/bits.deBruijn32tab", "math/bits.deBruijn64tab", "diacritic/big5.twins", "unicode/utf8.first", "unicode/utf8.acceptRanges", "diacritic/charset.namings", "internal/bytealg.MaxLen"], apart := false, laid := [("math/bits.deBruijn32tab", laid_math_bits_deBruijn32tab), ("math/bits.deBruijn64tab", laid_math_bits_deBruijn64tab), ("internal/strconv.uint64pow10", laid_internal_strconv_uint64pow10), ("unicode/utf8.acceptRanges", laid_unicode_utf8_acceptRanges), ("strconv.ErrRange", laid_strconv_ErrRange), ("strconv.ErrSyntax", laid_strconv_ErrSyntax), ("diacritic/big5.twins", laid_diacritic_big5_twins), ("diacritic/wansung.ahead", laid_diacritic_wansung_ahead), ("diacritic/charset.namings", laid_diacritic_charset_namings), ("unicode/utf8.first", laid_unicode_utf8_first)] }
def DetectResolvesSaid : Prop := detectResolvesRow.holds Tryz.pinned (OpenSpec.ofChange detectResolvesSpec)

/-- ITS FALSE NEIGHBOUR: 'it returns false'. Refute it at one input. -/
def detectResolvesWrong : ChangeSpec := { name := "detectResolves", fn := fun _ => fun
  | [d1, d2, d3, d4] => { results := [.lit (.bool false)], args := [d1, d2, d3, d4] }
  | _ => none }
def DetectResolvesWrongFalsely : Prop := detectResolvesRow.holds Tryz.pinned (OpenSpec.ofChange detectResolvesWrong)

/-- 'diacriticlaw10.DetectSums': WHATEVER THE INPUT: true; the input reads as it did. -/
def detectSumsSpec : ChangeSpec := { name := "detectSums", fn := fun _ => fun
  | [d1, d2, d3] => { results := [.lit (.bool true)], args := [d1, d2, d3] }
  | _ => none }
def detectSumsRow : OpenClaim := { program := "ytndopjmdpmkgeaagreatdoor", sum := "407cb20c4bf9d79b89c506f0f1ca4f77c27295226ed90009f81308e9806d8702", func := "diacritic/diacriticlaw10.DetectSums", spec := "detectSums", inPlace := ["internal/bytealg.IndexByteString", "internal/abi.NoEscape", "internal/bytealg.MakeNoZero", "internal/bytealg.IndexString"], unfollowed := true, recurses := true, named := ["diacritic/wansung.ahead", "strconv.ErrSyntax", "strconv.ErrRange", "internal/strconv.uint64pow10", "math/bits.deBruijn32tab", "math/bits.deBruijn64tab", "diacritic/big5.twins", "unicode/utf8.first", "unicode/utf8.acceptRanges", "diacritic/charset.namings", "internal/bytealg.MaxLen"], apart := false, laid := [("math/bits.deBruijn32tab", laid_math_bits_deBruijn32tab), ("math/bits.deBruijn64tab", laid_math_bits_deBruijn64tab), ("internal/strconv.uint64pow10", laid_internal_strconv_uint64pow10), ("unicode/utf8.acceptRanges", laid_unicode_utf8_acceptRanges), ("strconv.ErrRange", laid_strconv_ErrRange), ("strconv.ErrSyntax", laid_strconv_ErrSyntax), ("diacritic/big5.twins", laid_diacritic_big5_twins), ("diacritic/wansung.ahead", laid_diacritic_wansung_ahead), ("diacritic/charset.namings", laid_diacritic_charset_namings), ("unicode/utf8.first", laid_unicode_utf8_first)] }
def DetectSumsSaid : Prop := detectSumsRow.holds Tryz.pinned (OpenSpec.ofChange detectSumsSpec)

/-- ITS FALSE NEIGHBOUR: 'it returns false'. Refute it at one input. -/
def detectSumsWrong : ChangeSpec := { name := "detectSums", fn := fun _ => fun
  | [d1, d2, d3] => { results := [.lit (.bool false)], args := [d1, d2, d3] }
  | _ => none }
def DetectSumsWrongFalsely : Prop := detectSumsRow.holds Tryz.pinned (OpenSpec.ofChange detectSumsWrong)

/-- 'diacriticlaw10.DetectSigns': WHATEVER THE INPUT: true; the input reads as it did. -/
def detectSignsSpec : ChangeSpec := { name := "detectSigns", fn := fun _ => fun
  | [d1, d2, d3, d4, d5] => { results := [.lit (.bool true)], args := [d1, d2, d3, d4, d5] }
  | _ => none }
def detectSignsRow : OpenClaim := { program := "ytndopjmdpmkgeaagreatdoor", sum := "407cb20c4bf9d79b89c506f0f1ca4f77c27295226ed90009f81308e9806d8702", func := "diacritic/diacriticlaw10.DetectSigns", spec := "detectSigns", inPlace := ["internal/bytealg.IndexByteString", "internal/abi.NoEscape", "internal/bytealg.MakeNoZero", "internal/bytealg.IndexString"], unfollowed := true, recurses := true, named := ["diacritic/wansung.ahead", "strconv.ErrSyntax", "strconv.ErrRange", "internal/strconv.uint64pow10", "math/bits.deBruijn32tab", "math/bits.deBruijn64tab", "diacritic/big5.twins", "unicode/utf8.first", "unicode/utf8.acceptRanges", "diacritic/charset.namings", "internal/bytealg.MaxLen"], apart := false, laid := [("math/bits.deBruijn32tab", laid_math_bits_deBruijn32tab), ("math/bits.deBruijn64tab", laid_math_bits_deBruijn64tab), ("internal/strconv.uint64pow10", laid_internal_strconv_uint64pow10), ("unicode/utf8.acceptRanges", laid_unicode_utf8_acceptRanges), ("strconv.ErrRange", laid_strconv_ErrRange), ("strconv.ErrSyntax", laid_strconv_ErrSyntax), ("diacritic/big5.twins", laid_diacritic_big5_twins), ("diacritic/wansung.ahead", laid_diacritic_wansung_ahead), ("diacritic/charset.namings", laid_diacritic_charset_namings), ("unicode/utf8.first", laid_unicode_utf8_first)] }
def DetectSignsSaid : Prop := detectSignsRow.holds Tryz.pinned (OpenSpec.ofChange detectSignsSpec)

/-- ITS FALSE NEIGHBOUR: 'it returns false'. Refute it at one input. -/
def detectSignsWrong : ChangeSpec := { name := "detectSigns", fn := fun _ => fun
  | [d1, d2, d3, d4, d5] => { results := [.lit (.bool false)], args := [d1, d2, d3, d4, d5] }
  | _ => none }
def DetectSignsWrongFalsely : Prop := detectSignsRow.holds Tryz.pinned (OpenSpec.ofChange detectSignsWrong)

/- THE SECOND FORM. 'bulk': how many values and letters a reading holds, each counted each time it is reached (what is shared counts as often as it is met; a slice's spare places count too). A statement '..UptoSaid' is the law's where the arguments, and the package variables that the reading takes, are together of bulk at most 1048576: NARROWER than '..Said'. Prove '..Said' where nothing that the law and all that it calls make is longer than what came in: it says more and counts as full. Else prove '..UptoSaid'. A law counts once. -/
mutual
def uptoBulk {H : Type} : DataW H → Nat
  | .lit (.string bytes) => bytes.length + 1
  | .lit _ => 1
  | .nil => 1
  | .ptr d => uptoBulk d + 1
  | .slice elems spare => uptoBulkAll elems + uptoBulkAll spare + 1
  | .agg parts => uptoBulkAll parts + 1
  | .iface _ d => uptoBulk d + 1
  | .map entries => uptoBulkEntries entries + 1
  | .held _ => 1
def uptoBulkAll {H : Type} : List (DataW H) → Nat
  | [] => 0
  | d :: r => uptoBulk d + uptoBulkAll r
def uptoBulkEntries {H : Type} : List (Lit × DataW H) → Nat
  | [] => 0
  | x :: r => uptoBulkEntry x + uptoBulkEntries r
def uptoBulkEntry {H : Type} : Lit × DataW H → Nat
  | (.string bytes, d) => bytes.length + uptoBulk d + 1
  | (_, d) => uptoBulk d + 1
 end
def uptoSmall : (H : Type) → List (DataW H) → Bool := fun _ ds => decide (uptoBulkAll ds ≤ 1048576)
def OpenSpec.upto (s : _root_.Go.ChangeSpec) : _root_.Go.OpenSpec := { _root_.Go.OpenSpec.ofChange s with cond := some uptoSmall }

/-- 'diacriticlaw10.DetectScores', WHERE WHAT IT READS IS OF BULK AT MOST 1048576: true; the input reads as it did. -/
def detectScoresUptoRow : OpenClaim := { program := "ytndopjmdpmkgeaagreatdoor", sum := "407cb20c4bf9d79b89c506f0f1ca4f77c27295226ed90009f81308e9806d8702", func := "diacritic/diacriticlaw10.DetectScores", spec := "detectScores", inPlace := ["internal/bytealg.IndexByteString", "internal/abi.NoEscape", "internal/bytealg.MakeNoZero", "internal/bytealg.IndexString"], unfollowed := true, recurses := true, named := ["diacritic/wansung.ahead", "strconv.ErrSyntax", "strconv.ErrRange", "internal/strconv.uint64pow10", "math/bits.deBruijn32tab", "math/bits.deBruijn64tab", "diacritic/big5.twins", "unicode/utf8.first", "unicode/utf8.acceptRanges", "diacritic/charset.namings", "internal/bytealg.MaxLen"], apart := false, laid := [("math/bits.deBruijn32tab", laid_math_bits_deBruijn32tab), ("math/bits.deBruijn64tab", laid_math_bits_deBruijn64tab), ("internal/strconv.uint64pow10", laid_internal_strconv_uint64pow10), ("unicode/utf8.acceptRanges", laid_unicode_utf8_acceptRanges), ("strconv.ErrRange", laid_strconv_ErrRange), ("strconv.ErrSyntax", laid_strconv_ErrSyntax), ("diacritic/big5.twins", laid_diacritic_big5_twins), ("diacritic/wansung.ahead", laid_diacritic_wansung_ahead), ("diacritic/charset.namings", laid_diacritic_charset_namings), ("unicode/utf8.first", laid_unicode_utf8_first)], narrowed := true }
def DetectScoresUptoSaid : Prop := detectScoresUptoRow.holds Tryz.pinned (OpenSpec.upto detectScoresSpec)

/-- 'diacriticlaw10.DetectGuesses', WHERE WHAT IT READS IS OF BULK AT MOST 1048576: true; the input reads as it did. -/
def detectGuessesUptoRow : OpenClaim := { program := "ytndopjmdpmkgeaagreatdoor", sum := "407cb20c4bf9d79b89c506f0f1ca4f77c27295226ed90009f81308e9806d8702", func := "diacritic/diacriticlaw10.DetectGuesses", spec := "detectGuesses", inPlace := ["internal/bytealg.IndexByteString", "internal/abi.NoEscape", "internal/bytealg.MakeNoZero", "internal/bytealg.IndexString"], unfollowed := true, recurses := true, named := ["diacritic/wansung.ahead", "strconv.ErrSyntax", "strconv.ErrRange", "internal/strconv.uint64pow10", "math/bits.deBruijn32tab", "math/bits.deBruijn64tab", "diacritic/big5.twins", "unicode/utf8.first", "unicode/utf8.acceptRanges", "diacritic/charset.namings", "internal/bytealg.MaxLen"], apart := false, laid := [("math/bits.deBruijn32tab", laid_math_bits_deBruijn32tab), ("math/bits.deBruijn64tab", laid_math_bits_deBruijn64tab), ("internal/strconv.uint64pow10", laid_internal_strconv_uint64pow10), ("unicode/utf8.acceptRanges", laid_unicode_utf8_acceptRanges), ("strconv.ErrRange", laid_strconv_ErrRange), ("strconv.ErrSyntax", laid_strconv_ErrSyntax), ("diacritic/big5.twins", laid_diacritic_big5_twins), ("diacritic/wansung.ahead", laid_diacritic_wansung_ahead), ("diacritic/charset.namings", laid_diacritic_charset_namings), ("unicode/utf8.first", laid_unicode_utf8_first)], narrowed := true }
def DetectGuessesUptoSaid : Prop := detectGuessesUptoRow.holds Tryz.pinned (OpenSpec.upto detectGuessesSpec)

/-- 'diacriticlaw10.DetectMarks', WHERE WHAT IT READS IS OF BULK AT MOST 1048576: true; the input reads as it did. -/
def detectMarksUptoRow : OpenClaim := { program := "ytndopjmdpmkgeaagreatdoor", sum := "407cb20c4bf9d79b89c506f0f1ca4f77c27295226ed90009f81308e9806d8702", func := "diacritic/diacriticlaw10.DetectMarks", spec := "detectMarks", inPlace := ["internal/bytealg.IndexByteString", "internal/abi.NoEscape", "internal/bytealg.MakeNoZero", "internal/bytealg.IndexString"], unfollowed := true, recurses := true, named := ["diacritic/wansung.ahead", "strconv.ErrSyntax", "strconv.ErrRange", "internal/strconv.uint64pow10", "math/bits.deBruijn32tab", "math/bits.deBruijn64tab", "diacritic/big5.twins", "unicode/utf8.first", "unicode/utf8.acceptRanges", "diacritic/charset.namings", "internal/bytealg.MaxLen"], apart := false, laid := [("math/bits.deBruijn32tab", laid_math_bits_deBruijn32tab), ("math/bits.deBruijn64tab", laid_math_bits_deBruijn64tab), ("internal/strconv.uint64pow10", laid_internal_strconv_uint64pow10), ("unicode/utf8.acceptRanges", laid_unicode_utf8_acceptRanges), ("strconv.ErrRange", laid_strconv_ErrRange), ("strconv.ErrSyntax", laid_strconv_ErrSyntax), ("diacritic/big5.twins", laid_diacritic_big5_twins), ("diacritic/wansung.ahead", laid_diacritic_wansung_ahead), ("diacritic/charset.namings", laid_diacritic_charset_namings), ("unicode/utf8.first", laid_unicode_utf8_first)], narrowed := true }
def DetectMarksUptoSaid : Prop := detectMarksUptoRow.holds Tryz.pinned (OpenSpec.upto detectMarksSpec)

/-- 'diacriticlaw10.DetectResolves', WHERE WHAT IT READS IS OF BULK AT MOST 1048576: true; the input reads as it did. -/
def detectResolvesUptoRow : OpenClaim := { program := "ytndopjmdpmkgeaagreatdoor", sum := "407cb20c4bf9d79b89c506f0f1ca4f77c27295226ed90009f81308e9806d8702", func := "diacritic/diacriticlaw10.DetectResolves", spec := "detectResolves", inPlace := ["internal/bytealg.IndexByteString", "internal/abi.NoEscape", "internal/bytealg.MakeNoZero", "internal/bytealg.IndexString"], unfollowed := true, recurses := true, named := ["diacritic/wansung.ahead", "strconv.ErrSyntax", "strconv.ErrRange", "internal/strconv.uint64pow10", "math/bits.deBruijn32tab", "math/bits.deBruijn64tab", "diacritic/big5.twins", "unicode/utf8.first", "unicode/utf8.acceptRanges", "diacritic/charset.namings", "internal/bytealg.MaxLen"], apart := false, laid := [("math/bits.deBruijn32tab", laid_math_bits_deBruijn32tab), ("math/bits.deBruijn64tab", laid_math_bits_deBruijn64tab), ("internal/strconv.uint64pow10", laid_internal_strconv_uint64pow10), ("unicode/utf8.acceptRanges", laid_unicode_utf8_acceptRanges), ("strconv.ErrRange", laid_strconv_ErrRange), ("strconv.ErrSyntax", laid_strconv_ErrSyntax), ("diacritic/big5.twins", laid_diacritic_big5_twins), ("diacritic/wansung.ahead", laid_diacritic_wansung_ahead), ("diacritic/charset.namings", laid_diacritic_charset_namings), ("unicode/utf8.first", laid_unicode_utf8_first)], narrowed := true }
def DetectResolvesUptoSaid : Prop := detectResolvesUptoRow.holds Tryz.pinned (OpenSpec.upto detectResolvesSpec)

/-- 'diacriticlaw10.DetectSums', WHERE WHAT IT READS IS OF BULK AT MOST 1048576: true; the input reads as it did. -/
def detectSumsUptoRow : OpenClaim := { program := "ytndopjmdpmkgeaagreatdoor", sum := "407cb20c4bf9d79b89c506f0f1ca4f77c27295226ed90009f81308e9806d8702", func := "diacritic/diacriticlaw10.DetectSums", spec := "detectSums", inPlace := ["internal/bytealg.IndexByteString", "internal/abi.NoEscape", "internal/bytealg.MakeNoZero", "internal/bytealg.IndexString"], unfollowed := true, recurses := true, named := ["diacritic/wansung.ahead", "strconv.ErrSyntax", "strconv.ErrRange", "internal/strconv.uint64pow10", "math/bits.deBruijn32tab", "math/bits.deBruijn64tab", "diacritic/big5.twins", "unicode/utf8.first", "unicode/utf8.acceptRanges", "diacritic/charset.namings", "internal/bytealg.MaxLen"], apart := false, laid := [("math/bits.deBruijn32tab", laid_math_bits_deBruijn32tab), ("math/bits.deBruijn64tab", laid_math_bits_deBruijn64tab), ("internal/strconv.uint64pow10", laid_internal_strconv_uint64pow10), ("unicode/utf8.acceptRanges", laid_unicode_utf8_acceptRanges), ("strconv.ErrRange", laid_strconv_ErrRange), ("strconv.ErrSyntax", laid_strconv_ErrSyntax), ("diacritic/big5.twins", laid_diacritic_big5_twins), ("diacritic/wansung.ahead", laid_diacritic_wansung_ahead), ("diacritic/charset.namings", laid_diacritic_charset_namings), ("unicode/utf8.first", laid_unicode_utf8_first)], narrowed := true }
def DetectSumsUptoSaid : Prop := detectSumsUptoRow.holds Tryz.pinned (OpenSpec.upto detectSumsSpec)

/-- 'diacriticlaw10.DetectSigns', WHERE WHAT IT READS IS OF BULK AT MOST 1048576: true; the input reads as it did. -/
def detectSignsUptoRow : OpenClaim := { program := "ytndopjmdpmkgeaagreatdoor", sum := "407cb20c4bf9d79b89c506f0f1ca4f77c27295226ed90009f81308e9806d8702", func := "diacritic/diacriticlaw10.DetectSigns", spec := "detectSigns", inPlace := ["internal/bytealg.IndexByteString", "internal/abi.NoEscape", "internal/bytealg.MakeNoZero", "internal/bytealg.IndexString"], unfollowed := true, recurses := true, named := ["diacritic/wansung.ahead", "strconv.ErrSyntax", "strconv.ErrRange", "internal/strconv.uint64pow10", "math/bits.deBruijn32tab", "math/bits.deBruijn64tab", "diacritic/big5.twins", "unicode/utf8.first", "unicode/utf8.acceptRanges", "diacritic/charset.namings", "internal/bytealg.MaxLen"], apart := false, laid := [("math/bits.deBruijn32tab", laid_math_bits_deBruijn32tab), ("math/bits.deBruijn64tab", laid_math_bits_deBruijn64tab), ("internal/strconv.uint64pow10", laid_internal_strconv_uint64pow10), ("unicode/utf8.acceptRanges", laid_unicode_utf8_acceptRanges), ("strconv.ErrRange", laid_strconv_ErrRange), ("strconv.ErrSyntax", laid_strconv_ErrSyntax), ("diacritic/big5.twins", laid_diacritic_big5_twins), ("diacritic/wansung.ahead", laid_diacritic_wansung_ahead), ("diacritic/charset.namings", laid_diacritic_charset_namings), ("unicode/utf8.first", laid_unicode_utf8_first)], narrowed := true }
def DetectSignsUptoSaid : Prop := detectSignsUptoRow.holds Tryz.pinned (OpenSpec.upto detectSignsSpec)

end Rows
end Go.Proofs.YtndopjmdpmkgeaaGreatDoor
