/-
  What the proof of this claim leans on (S2).
-/
import Derived.Test.YtndopjmdpmkgeaaGreatDoorProg
import Derived.Ground.Names2Prog
import Derived.Ground.SlgmProg
import Derived.Shelf.LaysM
import Derived.Shelf.Slices.SearchI
import Derived.Shelf.Small.Bits
import Derived.Shelf.Small.Strs
import Derived.Shelf.Small.Utf8
import Derived.Shelf.Small.Wraps
import Derived.Shelf.SortM.Plain
import Derived.Shelf.SortM.SortNone
import Derived.Shelf.Strconv.Clone
import Derived.Shelf.Strconv.Itoa0
import Derived.Shelf.Strconv.Itoa1
import Derived.Shelf.Strconv.Itoa2
import Derived.Shelf.Strconv.Itoa3
import Derived.Shelf.Strings.Builder1
import Derived.Shelf.Strings.Builder2
import Derived.Shelf.Strings.Builder2Cap
import Derived.Shelf.Strings.BuilderCap
import Derived.Shelf.Strings.BuilderF
import Derived.Shelf.Strings.BuilderK
import Derived.Shelf.Strings.BuilderRune
import Derived.Shelf.Strings.MapAny
import Derived.Shelf.Strings.MapGrows
import Derived.Shelf.Strings.Prefix
import Derived.Shelf.Strings.RuneCount
import Derived.Shelf.Strings.Runes
import Derived.Shelf.Strings.Search1
import Derived.Shelf.Unicode.Decode
import Derived.Shelf.Unicode.DecodeAny
import Derived.Shelf.Unicode.DecodeSlow
import Derived.Shelf.Unicode.ValidAny
import Derived.Shelf.Utf8.AppendRune
import Derived.Shelf.Utf8.AppendRunePlain
import Derived.Shelf.Utf8.RuneCount
namespace Go.Proofs
open Go.Shelf
def Tryz.lays119_ren : Go.Shelf.Ren := ⟨fun | 119 => 209 | n => n, fun | 21 => 21 | 4 => 4 | n => n, fun | n => n⟩
theorem Tryz.lays119 : Go.Proofs.Lays.n119 Tryz.prog Tryz.lays119_ren := {
  mixed := by kernel_rfl
  f119 := Tryz.func209.trans (congrArg some (by kernel_rfl))
  t4 := Tryz.underlying4
  a4 := Tryz.isAgg4
  z4 := Tryz.sizeOf4
  v4 := Tryz.zeroValue4
  t21 := Tryz.underlying21
  a21 := Tryz.isAgg21
  z21 := Tryz.sizeOf21
  v21 := Tryz.zeroValue21 }
/-- utf8.ValidRune: "ValidRune reports whether r can be legally encoded as UTF-8. Code points that are out of range or a surrogate half are illegal.": IT RETURNS 'Lib.validRune r'; the world is as it was. (LAID: no walk: one application.) -/
theorem Tryz.utf8_ValidRune (r : Int) (w : World) :
    Calls Tryz.prog 209 #[.int .i32 r] w fun e w' => e = .returned (.bool (Lib.validRune r)) ∧ w' = w := Any.utf8_ValidRune Tryz.lays119 r w
def Tryz.lays137_ren : Go.Shelf.Ren := ⟨fun | 137 => 208 | 217 => 222 | 266 => 237 | n => n, fun | 9 => 9 | 5 => 5 | 3 => 3 | n => n, fun | n => n⟩
theorem Tryz.lays137 : Go.Proofs.Lays.n137 Tryz.prog Tryz.lays137_ren := {
  mixed := by kernel_rfl
  f137 := Tryz.func208.trans (congrArg some (by kernel_rfl))
  f217 := Tryz.func222.trans (congrArg some (by kernel_rfl))
  f266 := Tryz.func237.trans (congrArg some (by kernel_rfl))
  t3 := Tryz.underlying3
  a3 := Tryz.isAgg3
  z3 := Tryz.sizeOf3
  v3 := Tryz.zeroValue3
  t5 := Tryz.underlying5
  a5 := Tryz.isAgg5
  z5 := Tryz.sizeOf5
  v5 := Tryz.zeroValue5
  t9 := Tryz.underlying9
  a9 := Tryz.isAgg9
  z9 := Tryz.sizeOf9
  v9 := Tryz.zeroValue9 }
open Go.RowKit in
/-- strings.IndexByte: "IndexByte returns the index of the first instance of c in s, or -1 if c is not present in s.": IT RETURNS 'Lib.indexByte s c'; the world is as it was. (LAID: no walk: one application.) -/
theorem Tryz.strings_IndexByte (s : ByteArray) (c : Int) (w : World) :
    Calls Tryz.prog 208 #[.string s, .int .u8 c] w fun e w' => e = .returned (.int .i64 (Lib.indexByte s.data.toList c.toNat.toUInt8)) ∧ w' = w := Any.strings_IndexByte Tryz.lays137 s c w
def Tryz.lays122_ren : Go.Shelf.Ren := ⟨fun | 122 => 195 | 215 => 216 | n => n, fun | 3 => 3 | 4 => 4 | n => n, fun | n => n⟩
theorem Tryz.lays122 : Go.Proofs.Lays.n122 Tryz.prog Tryz.lays122_ren := {
  mixed := by kernel_rfl
  f122 := Tryz.func195.trans (congrArg some (by kernel_rfl))
  f215 := Tryz.func216.trans (congrArg some (by kernel_rfl))
  t3 := Tryz.underlying3
  a3 := Tryz.isAgg3
  z3 := Tryz.sizeOf3
  v3 := Tryz.zeroValue3
  t4 := Tryz.underlying4
  a4 := Tryz.isAgg4
  z4 := Tryz.sizeOf4
  v4 := Tryz.zeroValue4 }
open Go.RowKit in
/-- cmp.Compare at int: "Compare returns -1 if x is less than y, 0 if x equals y, +1 if x is greater than y.": IT RETURNS 'Lib.compareInt x y'; the world is as it was. (LAID: no walk: one application.) -/
theorem Tryz.cmp_Compare_int (x y : Int) (w : World) :
    Calls Tryz.prog 195 #[.int .i64 x, .int .i64 y] w fun e w' => e = .returned (.int .i64 (Lib.compareInt x y)) ∧ w' = w := Any.cmp_Compare_int Tryz.lays122 x y w
def Tryz.lays242_ren : Go.Shelf.Ren := ⟨fun | 242 => 125 | 278 => 166 | n => n, fun | 37 => 96 | 21 => 21 | 51 => 191 | 4 => 4 | 5 => 5 | 46 => 120 | n => n, fun | n => n⟩
theorem Tryz.lays242 : Go.Proofs.Lays.n242 Tryz.prog Tryz.lays242_ren := {
  mixed := by kernel_rfl
  f242 := Tryz.func125.trans (congrArg some (by kernel_rfl))
  f278 := Tryz.func166.trans (congrArg some (by kernel_rfl))
  t4 := Tryz.underlying4
  a4 := Tryz.isAgg4
  z4 := Tryz.sizeOf4
  v4 := Tryz.zeroValue4
  t5 := Tryz.underlying5
  a5 := Tryz.isAgg5
  z5 := Tryz.sizeOf5
  v5 := Tryz.zeroValue5
  t21 := Tryz.underlying21
  a21 := Tryz.isAgg21
  z21 := Tryz.sizeOf21
  v21 := Tryz.zeroValue21
  t37 := Tryz.underlying96
  a37 := Tryz.isAgg96
  z37 := Tryz.sizeOf96
  v37 := Tryz.zeroValue96
  t46 := Tryz.underlying120
  a46 := Tryz.isAgg120
  z46 := Tryz.sizeOf120
  v46 := Tryz.zeroValue120
  t51 := Tryz.underlying191
  a51 := Tryz.isAgg191
  z51 := Tryz.sizeOf191
  v51 := Tryz.zeroValue191 }
open Go.RowKit in
/-- unicode/utf8.AppendRune: "AppendRune appends the UTF-8 encoding of r to the end of p and returns the extended buffer. If the rune is out of range, it appends the encoding of RuneError.": ONTO A ROW OF BYTES THAT THE CALL OWNS (its head frozen or not): EVERY int32: 'Lib.runeCells r' goes in behind what the row holds; the world: one new block (the bytes as the call's variadic argument), then what 'append' does to the row. (LAID: no walk: one application.) -/
theorem Tryz.utf8_AppendRune_plain (B : Nat) (v : Value) (n : Nat) (xs : List Value) (r : Int) (hr0 : -2147483648 ≤ r) (hr1 : r ≤ 2147483647) (w : World) (hown : w.ownsRow B 5 1 v n xs) (hlen : n + 4 ≤ 140737488355328) (hBw : B ≤ w.heap.size) :
    Calls Tryz.prog 125 #[v, .int .i32 r] w fun e w' => ∃ v', e = .returned v' ∧ w'.ownsRow B 5 1 v' (n + (Lib.runeCells r).length) (xs ++ Lib.runeCells r) ∧ ∃ o, (w.alloc o).grownBy w' v.ownBlock := Any.utf8_AppendRune_plain Tryz.lays242 (by kernel_rfl) B v n xs r hr0 hr1 w hown hlen hBw
def Tryz.lays195_ren : Go.Shelf.Ren := ⟨fun | 195 => 170 | n => n, fun | 9 => 9 | 3 => 3 | 0 => 0 | 4 => 4 | n => n, fun | n => n⟩
theorem Tryz.lays195 : Go.Proofs.Lays.n195 Tryz.prog Tryz.lays195_ren := {
  mixed := by kernel_rfl
  f195 := Tryz.func170.trans (congrArg some (by kernel_rfl))
  t0 := Tryz.underlying0
  a0 := Tryz.isAgg0
  z0 := Tryz.sizeOf0
  v0 := Tryz.zeroValue0
  t3 := Tryz.underlying3
  a3 := Tryz.isAgg3
  z3 := Tryz.sizeOf3
  v3 := Tryz.zeroValue3
  t4 := Tryz.underlying4
  a4 := Tryz.isAgg4
  z4 := Tryz.sizeOf4
  v4 := Tryz.zeroValue4
  t9 := Tryz.underlying9
  a9 := Tryz.isAgg9
  z9 := Tryz.sizeOf9
  v9 := Tryz.zeroValue9 }
open Go.RowKit in
/-- unicode/utf8.RuneCountInString: "RuneCountInString is like RuneCount but its input is a string." ("RuneCount returns the number of runes in p. Erroneous and short encodings are treated as single runes of width 1 byte."): EVERY STRING, valid UTF-8 or not: 'Lib.runeCount s' (plain Lean over the model's own 'Utf8.decode'; 'Lib.runeCount_le': at most len(s); 'Lib.runeCount_ascii': on ASCII: len(s)). THE ONE CONDITION: len(s) below 2^63 - 1 (the counter does not wrap): the form's reach pays it. THE WORLD BEHIND THE CALL: ONE BLOCK MORE: the model's iterator over s, at its end: all else as it was. (LAID: no walk: one application.) -/
theorem Tryz.utf8_RuneCountInString (s : ByteArray) (w : World) (hs : s.size < 9223372036854775807) :
    Calls Tryz.prog 170 #[.string s] w fun e w' => e = .returned (.int .i64 (Lib.runeCount s)) ∧ ∃ pos, w' = w.iter s pos := Any.utf8_RuneCountInString Tryz.lays195 s w hs
def Tryz.laysM316_ren : Go.Shelf.Ren := ⟨fun | 316 => 114 | n => n, fun | 9 => 9 | 3 => 3 | 4 => 4 | 37 => 96 | 0 => 0 | 127 => 160 | 5 => 5 | n => n, fun | n => n⟩
theorem Tryz.laysM316 : Go.Proofs.LaysM.n316 Tryz.prog Tryz.laysM316_ren := {
  mixed := by kernel_rfl
  f316 := Tryz.func114.trans (congrArg some (by kernel_rfl))
  t0 := Tryz.underlying0
  a0 := Tryz.isAgg0
  z0 := Tryz.sizeOf0
  v0 := Tryz.zeroValue0
  t3 := Tryz.underlying3
  a3 := Tryz.isAgg3
  z3 := Tryz.sizeOf3
  v3 := Tryz.zeroValue3
  t4 := Tryz.underlying4
  a4 := Tryz.isAgg4
  z4 := Tryz.sizeOf4
  v4 := Tryz.zeroValue4
  t9 := Tryz.underlying9
  a9 := Tryz.isAgg9
  z9 := Tryz.sizeOf9
  v9 := Tryz.zeroValue9
  t37 := Tryz.underlying96
  a37 := Tryz.isAgg96
  z37 := Tryz.sizeOf96
  v37 := Tryz.zeroValue96
  t127 := Tryz.underlying160
  a127 := Tryz.isAgg160
  z127 := Tryz.sizeOf160
  v127 := Tryz.zeroValue160
  t5 := Tryz.underlying5
  a5 := Tryz.isAgg5
  z5 := Tryz.sizeOf5
  v5 := Tryz.zeroValue5
  i0 := by kernel_rfl
  i3 := by kernel_rfl
  i4 := by kernel_rfl
  i5 := by kernel_rfl
  i9 := by kernel_rfl
  i37 := by kernel_rfl
  i127 := by kernel_rfl }
open Go.RowKit in
/-- internal/stringslite.Clone (what strings.Clone calls): "Clone returns a fresh copy of s.": THE SAME BYTES. Of what was there nothing has turned (a new row is laid, and frozen, where s is not empty). (LAID: no walk: one application.) -/
theorem Tryz.stringslite_Clone (s : ByteArray) (w : World) (hlim : s.size ≤ 281474976710656) :
    Calls Tryz.prog 114 #[.string s] w fun e w' => e = .returned (.string s) ∧ Below w.heap.size w w' := Any.stringslite_Clone Tryz.laysM316 s w hlim
def Tryz.lays99_ren : Go.Shelf.Ren := ⟨fun | 99 => 30 | 206 => 48 | n => n, fun | 9 => 9 | 4 => 4 | 3 => 3 | n => n, fun | n => n⟩
theorem Tryz.lays99 : Go.Proofs.Lays.n99 Tryz.prog Tryz.lays99_ren := {
  mixed := by kernel_rfl
  f99 := Tryz.func30.trans (congrArg some (by kernel_rfl))
  f206 := Tryz.func48.trans (congrArg some (by kernel_rfl))
  t3 := Tryz.underlying3
  a3 := Tryz.isAgg3
  z3 := Tryz.sizeOf3
  v3 := Tryz.zeroValue3
  t4 := Tryz.underlying4
  a4 := Tryz.isAgg4
  z4 := Tryz.sizeOf4
  v4 := Tryz.zeroValue4
  t9 := Tryz.underlying9
  a9 := Tryz.isAgg9
  z9 := Tryz.sizeOf9
  v9 := Tryz.zeroValue9 }
open Go.RowKit Go.Lib in
/-- strings.HasPrefix: "HasPrefix reports whether the string s begins with prefix.": IT RETURNS 'Lib.hasPrefix s prefix'; the world is as it was. (LAID: no walk: one application.) -/
theorem Tryz.strings_HasPrefix (s p : ByteArray) (w : World) :
    Calls Tryz.prog 30 #[.string s, .string p] w fun e w' => e = .returned (.bool (Lib.hasPrefix s.data.toList p.data.toList)) ∧ w' = w := Any.strings_HasPrefix Tryz.lays99 s p w
def Tryz.lays197_ren : Go.Shelf.Ren := ⟨fun | 197 => 86 | 260 => 127 | n => n, fun | 9 => 9 | 21 => 21 | 3 => 3 | 4 => 4 | 5 => 5 | 105 => 80 | 119 => 116 | 0 => 0 | 46 => 120 | 139 => 119 | 138 => 118 | n => n, fun | 3 => 1 | 4 => 2 | n => n⟩
theorem Tryz.lays197 : Go.Proofs.Lays.n197 Tryz.prog Tryz.lays197_ren := {
  mixed := by kernel_rfl
  f197 := Tryz.func86.trans (congrArg some (by kernel_rfl))
  f260 := Tryz.func127.trans (congrArg some (by kernel_rfl))
  t0 := Tryz.underlying0
  a0 := Tryz.isAgg0
  z0 := Tryz.sizeOf0
  v0 := Tryz.zeroValue0
  t3 := Tryz.underlying3
  a3 := Tryz.isAgg3
  z3 := Tryz.sizeOf3
  v3 := Tryz.zeroValue3
  t4 := Tryz.underlying4
  a4 := Tryz.isAgg4
  z4 := Tryz.sizeOf4
  v4 := Tryz.zeroValue4
  t5 := Tryz.underlying5
  a5 := Tryz.isAgg5
  z5 := Tryz.sizeOf5
  v5 := Tryz.zeroValue5
  t9 := Tryz.underlying9
  a9 := Tryz.isAgg9
  z9 := Tryz.sizeOf9
  v9 := Tryz.zeroValue9
  t21 := Tryz.underlying21
  a21 := Tryz.isAgg21
  z21 := Tryz.sizeOf21
  v21 := Tryz.zeroValue21
  t46 := Tryz.underlying120
  a46 := Tryz.isAgg120
  z46 := Tryz.sizeOf120
  v46 := Tryz.zeroValue120
  t105 := Tryz.underlying80
  a105 := Tryz.isAgg80
  z105 := Tryz.sizeOf80
  v105 := Tryz.zeroValue80
  t119 := Tryz.underlying116
  a119 := Tryz.isAgg116
  z119 := Tryz.sizeOf116
  t138 := Tryz.underlying118
  a138 := Tryz.isAgg118
  z138 := Tryz.sizeOf118
  v138 := Tryz.zeroValue118
  t139 := Tryz.underlying119
  a139 := Tryz.isAgg119
  z139 := Tryz.sizeOf119
  v139 := Tryz.zeroValue119
  g3 := by kernel_rfl
  g4 := by kernel_rfl }
def Tryz.lays260_ren : Go.Shelf.Ren := ⟨fun | 260 => 127 | n => n, fun | 9 => 9 | 21 => 21 | 3 => 3 | 4 => 4 | 5 => 5 | 119 => 116 | 0 => 0 | 46 => 120 | 139 => 119 | 138 => 118 | n => n, fun | 3 => 1 | 4 => 2 | n => n⟩
theorem Tryz.lays260 : Go.Proofs.Lays.n260 Tryz.prog Tryz.lays260_ren := {
  mixed := by kernel_rfl
  f260 := Tryz.func127.trans (congrArg some (by kernel_rfl))
  t0 := Tryz.underlying0
  a0 := Tryz.isAgg0
  z0 := Tryz.sizeOf0
  v0 := Tryz.zeroValue0
  t3 := Tryz.underlying3
  a3 := Tryz.isAgg3
  z3 := Tryz.sizeOf3
  v3 := Tryz.zeroValue3
  t4 := Tryz.underlying4
  a4 := Tryz.isAgg4
  z4 := Tryz.sizeOf4
  v4 := Tryz.zeroValue4
  t5 := Tryz.underlying5
  a5 := Tryz.isAgg5
  z5 := Tryz.sizeOf5
  v5 := Tryz.zeroValue5
  t9 := Tryz.underlying9
  a9 := Tryz.isAgg9
  z9 := Tryz.sizeOf9
  v9 := Tryz.zeroValue9
  t21 := Tryz.underlying21
  a21 := Tryz.isAgg21
  z21 := Tryz.sizeOf21
  v21 := Tryz.zeroValue21
  t46 := Tryz.underlying120
  a46 := Tryz.isAgg120
  z46 := Tryz.sizeOf120
  v46 := Tryz.zeroValue120
  t119 := Tryz.underlying116
  a119 := Tryz.isAgg116
  z119 := Tryz.sizeOf116
  t138 := Tryz.underlying118
  a138 := Tryz.isAgg118
  z138 := Tryz.sizeOf118
  v138 := Tryz.zeroValue118
  t139 := Tryz.underlying119
  a139 := Tryz.isAgg119
  z139 := Tryz.sizeOf119
  v139 := Tryz.zeroValue119
  g3 := by kernel_rfl
  g4 := by kernel_rfl }
open Go.RowKit Go.Lib in
/-- **unicode/utf8.DecodeRuneInString AT EVERY STRING.** (LAID: no walk: one application.) -/
theorem Tryz.utf8_DecodeRuneInString (s : ByteArray) (w : World) (hT : Lib.Utf8Tabs 1 2 w) :
    Calls Tryz.prog 86 #[.string s] w fun e w' => e = .returned (.tuple #[.int .i32 (Lib.decodeGo s).1, .int .i64 (Lib.decodeGo s).2]) ∧ Below w.heap.size w w' := Any.utf8_DecodeRuneInString Tryz.lays197 s w hT
def Tryz.lays230_ren : Go.Shelf.Ren := ⟨fun | 230 => 50 | 197 => 86 | 118 => 87 | 165 => 88 | 166 => 89 | 168 => 90 | 270 => 91 | 167 => 92 | 169 => 93 | 260 => 127 | 240 => 128 | 241 => 129 | 242 => 125 | 276 => 168 | 277 => 169 | 278 => 166 | n => n, fun | 107 => 84 | 9 => 9 | 72 => 123 | 0 => 0 | 4 => 4 | 3 => 3 | 21 => 21 | 105 => 80 | 76 => 128 | 5 => 5 | 75 => 127 | 70 => 121 | 20 => 20 | 37 => 96 | 127 => 160 | 119 => 116 | 46 => 120 | 139 => 119 | 138 => 118 | 164 => 193 | 51 => 191 | 80 => 133 | n => n, fun | 3 => 1 | 4 => 2 | n => n⟩
theorem Tryz.lays230 : Go.Proofs.Lays.n230 Tryz.prog Tryz.lays230_ren := {
  mixed := by kernel_rfl
  f118 := Tryz.func87.trans (congrArg some (by kernel_rfl))
  f165 := Tryz.func88.trans (congrArg some (by kernel_rfl))
  f166 := Tryz.func89.trans (congrArg some (by kernel_rfl))
  f167 := Tryz.func92.trans (congrArg some (by kernel_rfl))
  f168 := Tryz.func90.trans (congrArg some (by kernel_rfl))
  f169 := Tryz.func93.trans (congrArg some (by kernel_rfl))
  f197 := Tryz.func86.trans (congrArg some (by kernel_rfl))
  f230 := Tryz.func50.trans (congrArg some (by kernel_rfl))
  f240 := Tryz.func128.trans (congrArg some (by kernel_rfl))
  f241 := Tryz.func129.trans (congrArg some (by kernel_rfl))
  f242 := Tryz.func125.trans (congrArg some (by kernel_rfl))
  f260 := Tryz.func127.trans (congrArg some (by kernel_rfl))
  f270 := Tryz.func91.trans (congrArg some (by kernel_rfl))
  f276 := Tryz.func168.trans (congrArg some (by kernel_rfl))
  f277 := Tryz.func169.trans (congrArg some (by kernel_rfl))
  f278 := Tryz.func166.trans (congrArg some (by kernel_rfl))
  t0 := Tryz.underlying0
  a0 := Tryz.isAgg0
  z0 := Tryz.sizeOf0
  v0 := Tryz.zeroValue0
  t3 := Tryz.underlying3
  a3 := Tryz.isAgg3
  z3 := Tryz.sizeOf3
  v3 := Tryz.zeroValue3
  t4 := Tryz.underlying4
  a4 := Tryz.isAgg4
  z4 := Tryz.sizeOf4
  v4 := Tryz.zeroValue4
  t5 := Tryz.underlying5
  a5 := Tryz.isAgg5
  z5 := Tryz.sizeOf5
  v5 := Tryz.zeroValue5
  t9 := Tryz.underlying9
  a9 := Tryz.isAgg9
  z9 := Tryz.sizeOf9
  v9 := Tryz.zeroValue9
  t20 := Tryz.underlying20
  a20 := Tryz.isAgg20
  z20 := Tryz.sizeOf20
  v20 := Tryz.zeroValue20
  t21 := Tryz.underlying21
  a21 := Tryz.isAgg21
  z21 := Tryz.sizeOf21
  v21 := Tryz.zeroValue21
  t37 := Tryz.underlying96
  a37 := Tryz.isAgg96
  z37 := Tryz.sizeOf96
  v37 := Tryz.zeroValue96
  t46 := Tryz.underlying120
  a46 := Tryz.isAgg120
  z46 := Tryz.sizeOf120
  v46 := Tryz.zeroValue120
  t51 := Tryz.underlying191
  a51 := Tryz.isAgg191
  z51 := Tryz.sizeOf191
  v51 := Tryz.zeroValue191
  t70 := Tryz.underlying121
  a70 := Tryz.isAgg121
  z70 := Tryz.sizeOf121
  v70 := Tryz.zeroValue121
  t72 := Tryz.underlying123
  a72 := Tryz.isAgg123
  z72 := Tryz.sizeOf123
  v72 := Tryz.zeroValue123
  t75 := Tryz.underlying127
  a75 := Tryz.isAgg127
  z75 := Tryz.sizeOf127
  v75 := Tryz.zeroValue127
  t76 := Tryz.underlying128
  a76 := Tryz.isAgg128
  z76 := Tryz.sizeOf128
  v76 := Tryz.zeroValue128
  t105 := Tryz.underlying80
  a105 := Tryz.isAgg80
  z105 := Tryz.sizeOf80
  v105 := Tryz.zeroValue80
  t107 := Tryz.underlying84
  a107 := Tryz.isAgg84
  z107 := Tryz.sizeOf84
  v107 := Tryz.zeroValue84
  t119 := Tryz.underlying116
  a119 := Tryz.isAgg116
  z119 := Tryz.sizeOf116
  t127 := Tryz.underlying160
  a127 := Tryz.isAgg160
  z127 := Tryz.sizeOf160
  v127 := Tryz.zeroValue160
  t138 := Tryz.underlying118
  a138 := Tryz.isAgg118
  z138 := Tryz.sizeOf118
  v138 := Tryz.zeroValue118
  t139 := Tryz.underlying119
  a139 := Tryz.isAgg119
  z139 := Tryz.sizeOf119
  v139 := Tryz.zeroValue119
  t164 := Tryz.underlying193
  a164 := Tryz.isAgg193
  z164 := Tryz.sizeOf193
  v164 := Tryz.zeroValue193
  g3 := by kernel_rfl
  g4 := by kernel_rfl }
theorem Tryz.Builder_Extra_230 : Builder.Extra Tryz.prog Tryz.lays230_ren := {
  sizeBuilder := by kernel_rfl
  liesBuilder := by kernel_rfl
  t5 := Tryz.underlying5
  a5 := Tryz.isAgg5
  z5 := Tryz.sizeOf5
  v5 := Tryz.zeroValue5
  infoByte := by kernel_rfl
  cellsByte := by kernel_rfl
  sizeByte := by kernel_rfl
  neB5 := by decide }
open Go.RowKit Go.Lib in
/-- **strings.Map(mapping, s) AT EVERY STRING, AT WHATEVER FUNCTION VALUE: IT MAY DROP RUNES (a negative result); IT MAY GROW THE HEAP.** (LAID: no walk: one application.) -/
theorem Tryz.strings_Map_grows (g : Nat) (lb : Array Value) (eg : ∀ args w, (callFunc g args).run Tryz.prog w = .ok (.enter g args) w) (f : Int → Int) (s : ByteArray) (w : World) (hs : s.size < 35184372088832) (hf : MapGrows Tryz.prog g lb f w) (hnn : ∀ x : Nat, x ≤ 1114111 → -2147483648 ≤ f x ∧ f x ≤ 2147483647) (hT : Lib.Utf8Tabs 1 2 w) :
    Calls Tryz.prog 50 #[.func (.func g) #[] lb, .string s] w fun e w' => e = .returned (.string ⟨(Lib.mapD f s.data.toList).toArray⟩) ∧ Below w.heap.size w w' := Any.strings_Map_grows Tryz.lays230 Tryz.Builder_Extra_230 g lb eg f s w hs hf hnn hT
def Tryz.laysSlM5_f213_ren : Go.Shelf.Ren := ⟨fun | 5 => 213 | 8 => 215 | 7 => 224 | 19 => 233 | 20 => 234 | 10 => 238 | 11 => 239 | 12 => 240 | 13 => 241 | 14 => 242 | 15 => 243 | 16 => 244 | 17 => 245 | 18 => 246 | 30 => 258 | 31 => 248 | 32 => 249 | 33 => 259 | 34 => 260 | 35 => 261 | 40 => 265 | n => n, fun | 23 => 222 | 25 => 2 | 3 => 3 | 32 => 120 | 22 => 222 | 0 => 0 | 44 => 191 | 46 => 159 | 4 => 4 | 36 => 233 | 35 => 232 | 41 => 23 | 5 => 5 | 9 => 9 | 53 => 247 | 57 => 251 | 63 => 261 | 64 => 38 | n => n, fun | n => n⟩
theorem Tryz.laysSlM5_f213 : Go.Proofs.SlLaysM.n5 Tryz.prog Tryz.laysSlM5_f213_ren := {
  mixed := by kernel_rfl
  f5 := ⟨Tryz.f213.name, by decide, Tryz.func213.trans (congrArg some (by kernel_rfl))⟩
  f7 := ⟨Tryz.f224.name, by decide, Tryz.func224.trans (congrArg some (by kernel_rfl))⟩
  f8 := Tryz.func215.trans (congrArg some (by kernel_rfl))
  f10 := ⟨Tryz.f238.name, by decide, Tryz.func238.trans (congrArg some (by kernel_rfl))⟩
  f11 := ⟨Tryz.f239.name, by decide, Tryz.func239.trans (congrArg some (by kernel_rfl))⟩
  f12 := ⟨Tryz.f240.name, by decide, Tryz.func240.trans (congrArg some (by kernel_rfl))⟩
  f13 := ⟨Tryz.f241.name, by decide, Tryz.func241.trans (congrArg some (by kernel_rfl))⟩
  f14 := ⟨Tryz.f242.name, by decide, Tryz.func242.trans (congrArg some (by kernel_rfl))⟩
  f15 := ⟨Tryz.f243.name, by decide, Tryz.func243.trans (congrArg some (by kernel_rfl))⟩
  f16 := ⟨Tryz.f244.name, by decide, Tryz.func244.trans (congrArg some (by kernel_rfl))⟩
  f17 := ⟨Tryz.f245.name, by decide, Tryz.func245.trans (congrArg some (by kernel_rfl))⟩
  f18 := ⟨Tryz.f246.name, by decide, Tryz.func246.trans (congrArg some (by kernel_rfl))⟩
  f19 := Tryz.func233.trans (congrArg some (by kernel_rfl))
  f20 := Tryz.func234.trans (congrArg some (by kernel_rfl))
  f30 := ⟨Tryz.f258.name, by decide, Tryz.func258.trans (congrArg some (by kernel_rfl))⟩
  f31 := Tryz.func248.trans (congrArg some (by kernel_rfl))
  f32 := Tryz.func249.trans (congrArg some (by kernel_rfl))
  f33 := ⟨Tryz.f259.name, by decide, Tryz.func259.trans (congrArg some (by kernel_rfl))⟩
  f34 := ⟨Tryz.f260.name, by decide, Tryz.func260.trans (congrArg some (by kernel_rfl))⟩
  f35 := ⟨Tryz.f261.name, by decide, Tryz.func261.trans (congrArg some (by kernel_rfl))⟩
  f40 := ⟨Tryz.f265.name, by decide, Tryz.func265.trans (congrArg some (by kernel_rfl))⟩
  t0 := Tryz.underlying0
  a0 := Tryz.isAgg0
  z0 := Tryz.sizeOf0
  v0 := Tryz.zeroValue0
  t3 := Tryz.underlying3
  a3 := Tryz.isAgg3
  z3 := Tryz.sizeOf3
  v3 := Tryz.zeroValue3
  t4 := Tryz.underlying4
  a4 := Tryz.isAgg4
  z4 := Tryz.sizeOf4
  v4 := Tryz.zeroValue4
  t5 := Tryz.underlying5
  a5 := Tryz.isAgg5
  z5 := Tryz.sizeOf5
  v5 := Tryz.zeroValue5
  t9 := Tryz.underlying9
  a9 := Tryz.isAgg9
  z9 := Tryz.sizeOf9
  v9 := Tryz.zeroValue9
  t22 := Tryz.underlying222
  a22 := Tryz.isAgg222
  z22 := Tryz.sizeOf222
  v22 := Tryz.zeroValue222
  t23 := Tryz.underlying222
  a23 := Tryz.isAgg222
  z23 := Tryz.sizeOf222
  v23 := Tryz.zeroValue222
  t25 := Tryz.underlying2
  a25 := Tryz.isAgg2
  z25 := Tryz.sizeOf2
  v25 := Tryz.zeroValue2
  t32 := Tryz.underlying120
  a32 := Tryz.isAgg120
  z32 := Tryz.sizeOf120
  v32 := Tryz.zeroValue120
  t35 := Tryz.underlying232
  a35 := Tryz.isAgg232
  z35 := Tryz.sizeOf232
  v35 := Tryz.zeroValue232
  t36 := Tryz.underlying233
  a36 := Tryz.isAgg233
  z36 := Tryz.sizeOf233
  v36 := Tryz.zeroValue233
  t41 := Tryz.underlying23
  a41 := Tryz.isAgg23
  z41 := Tryz.sizeOf23
  v41 := Tryz.zeroValue23
  t44 := Tryz.underlying191
  a44 := Tryz.isAgg191
  z44 := Tryz.sizeOf191
  v44 := Tryz.zeroValue191
  t46 := Tryz.underlying159
  a46 := Tryz.isAgg159
  z46 := Tryz.sizeOf159
  v46 := Tryz.zeroValue159
  t53 := Tryz.underlying247
  a53 := Tryz.isAgg247
  z53 := Tryz.sizeOf247
  v53 := Tryz.zeroValue247
  t57 := Tryz.underlying251
  a57 := Tryz.isAgg251
  z57 := Tryz.sizeOf251
  v57 := Tryz.zeroValue251
  t63 := Tryz.underlying261
  a63 := Tryz.isAgg261
  z63 := Tryz.sizeOf261
  v63 := Tryz.zeroValue261
  t64 := Tryz.underlying38
  a64 := Tryz.isAgg38
  z64 := Tryz.sizeOf38
  v64 := Tryz.zeroValue38 }
open Go.Sort Go.RowKit in
theorem Tryz.slices_Sort_int (blk off cap : Nat) (zs : List Int) (w : World) (hH : Holds (Value.int .i64) w blk off zs.toArray) (hblk : blk < w.heap.size) (hsz : zs.length < 4611686018427387904) :
    Calls Tryz.prog 213 #[.slice (some ⟨blk, off, none⟩) zs.length cap] w fun e w' =>
      e = .returned (.tuple #[]) ∧ ∃ n os, w' = grow (putRow (Value.int .i64) (Sort.ahead w n) blk off (zs.mergeSort fun x y => decide (x ≤ y)).toArray) os := AnyM.slices_Sort_int Tryz.laysSlM5_f213 blk off cap zs w hH hblk hsz
open Go.RowKit Go.Sort in
/-- .. and plain. (LAID AT THE INSTANCE 'slices.Sort[[]int64,int64]': no walk: one application.) -/
theorem Tryz.slices_Sort_int_none (p : Option Addr) (cap : Nat) (w : World) :
    Calls Tryz.prog 213 #[.slice p 0 cap] w fun e w' => e = .returned (.tuple #[]) ∧ w' = w := AnyM.slices_Sort_int_none Tryz.laysSlM5_f213 p cap w
def Tryz.laysValid_ren : Go.Shelf.Ren := ⟨fun | 196 => 49 | 259 => 85 | n => n, fun | 9 => 9 | 4 => 4 | 3 => 3 | 5 => 5 | 12 => 12 | 119 => 116 | 0 => 0 | 46 => 120 | 139 => 119 | 138 => 118 | 53 => 159 | n => n, fun | 3 => 1 | 4 => 2 | n => n⟩
theorem Tryz.laysValid : Go.Proofs.Lays.n196 Tryz.prog Tryz.laysValid_ren := {
  mixed := by kernel_rfl
  f196 := Tryz.func49.trans (congrArg some (by kernel_rfl))
  f259 := Tryz.func85.trans (congrArg some (by kernel_rfl))
  t0 := Tryz.underlying0
  a0 := Tryz.isAgg0
  z0 := Tryz.sizeOf0
  v0 := Tryz.zeroValue0
  t3 := Tryz.underlying3
  a3 := Tryz.isAgg3
  z3 := Tryz.sizeOf3
  v3 := Tryz.zeroValue3
  t4 := Tryz.underlying4
  a4 := Tryz.isAgg4
  z4 := Tryz.sizeOf4
  v4 := Tryz.zeroValue4
  t5 := Tryz.underlying5
  a5 := Tryz.isAgg5
  z5 := Tryz.sizeOf5
  v5 := Tryz.zeroValue5
  t9 := Tryz.underlying9
  a9 := Tryz.isAgg9
  z9 := Tryz.sizeOf9
  v9 := Tryz.zeroValue9
  t12 := Tryz.underlying12
  a12 := Tryz.isAgg12
  z12 := Tryz.sizeOf12
  v12 := Tryz.zeroValue12
  t46 := Tryz.underlying120
  a46 := Tryz.isAgg120
  z46 := Tryz.sizeOf120
  v46 := Tryz.zeroValue120
  t53 := Tryz.underlying159
  a53 := Tryz.isAgg159
  z53 := Tryz.sizeOf159
  v53 := Tryz.zeroValue159
  t119 := Tryz.underlying116
  a119 := Tryz.isAgg116
  z119 := Tryz.sizeOf116
  t138 := Tryz.underlying118
  a138 := Tryz.isAgg118
  z138 := Tryz.sizeOf118
  v138 := Tryz.zeroValue118
  t139 := Tryz.underlying119
  a139 := Tryz.isAgg119
  z139 := Tryz.sizeOf119
  v139 := Tryz.zeroValue119
  g3 := by kernel_rfl
  g4 := by kernel_rfl }
open Go.RowKit Go.Lib in
/-- unicode/utf8.ValidString. -/
theorem Tryz.utf8_ValidString (s : ByteArray) (w : World) (hs : s.size ≤ 9223372036854775807) (hT : Lib.Utf8Tabs 1 2 w) :
    Calls Tryz.prog 49 #[.string s] w fun e w' => e = .returned (.bool (Lib.validD s.data.toList)) ∧ Below w.heap.size w w' := Any.utf8_ValidString Tryz.laysValid s w hs hT
end Go.Proofs

