/-
  DERIVED: THE SHELF's CONTRACTS AT THIS DUMP, IN PLAIN WORDS (tools/lay-plain.mjs out of 'TrydShelf.lean', which tools/lay-shelf.mjs wrote): THE SAME DECLARATIONS UNDER THE SAME NAMES: 'import', 'namespace', 'open', 'def', 'theorem' AND NOTHING ELSE: no command of the shelf's: FOR A HAND-IN. Each laying: the table of numbers ('.._ren') and one theorem, a field a fact of the dump's own or the kernel's comparison; each contract: ONE APPLICATION.
-/
import Derived.Shelf.Unicode.ValidAny
import Derived.Shelf.Small.Bits
import Derived.Shelf.Small.Wraps
import Derived.Shelf.Utf8.AppendRune
import Derived.Shelf.Utf8.AppendRunePlain
import Derived.Shelf.Utf8.RuneCount
import Derived.Shelf.Strconv.Itoa0
import Derived.Shelf.Strings.RuneCount
import Derived.Shelf.Unicode.DecodeSlow
import Derived.Shelf.Unicode.DecodeAny
import Derived.Ground.SlgmProg
import Derived.Shelf.SortM.Plain
import Derived.Shelf.SortM.SortNone
import Derived.Test.YtjlghdlbkibneaaDoorProg
namespace Go.Proofs
open Go.Shelf
def Tryd.lays128_ren : Go.Shelf.Ren := ⟨fun | 128 => 98 | n => n, fun | 51 => 125 | 3 => 3 | 4 => 4 | 46 => 124 | 5 => 5 | 9 => 9 | n => n, fun | n => n⟩
theorem Tryd.lays128 : Go.Proofs.Lays.n128 Tryd.prog Tryd.lays128_ren := {
  mixed := by kernel_rfl
  f128 := Tryd.func98.trans (congrArg some (by kernel_rfl))
  t3 := Tryd.underlying3
  a3 := Tryd.isAgg3
  z3 := Tryd.sizeOf3
  v3 := Tryd.zeroValue3
  t4 := Tryd.underlying4
  a4 := Tryd.isAgg4
  z4 := Tryd.sizeOf4
  v4 := Tryd.zeroValue4
  t5 := Tryd.underlying5
  a5 := Tryd.isAgg5
  z5 := Tryd.sizeOf5
  v5 := Tryd.zeroValue5
  t9 := Tryd.underlying9
  a9 := Tryd.isAgg9
  z9 := Tryd.sizeOf9
  v9 := Tryd.zeroValue9
  t46 := Tryd.underlying124
  a46 := Tryd.isAgg124
  z46 := Tryd.sizeOf124
  v46 := Tryd.zeroValue124
  t51 := Tryd.underlying125
  a51 := Tryd.isAgg125
  z51 := Tryd.sizeOf125
  v51 := Tryd.zeroValue125 }
/-- bits.Len32: "Len32 returns the minimum number of bits required to represent x; the result is 0 for x == 0.": IT RETURNS 'Lib.bitLen x'; the world is as it was. ('h0', 'h1': x is a uint32.) (LAID: no walk: one application.) -/
theorem Tryd.bits_Len32 (x : Int) (w : World) (h0 : 0 ≤ x) (h1 : x ≤ 4294967295) :
    Calls Tryd.prog 98 #[.int .u32 x] w fun e w' => e = .returned (.int .i64 (Lib.bitLen x.toNat)) ∧ w' = w := Any.bits_Len32 Tryd.lays128 x w h0 h1
def Tryd.lays125_ren : Go.Shelf.Ren := ⟨fun | 125 => 84 | 128 => 98 | 129 => 99 | n => n, fun | 46 => 124 | 3 => 3 | 51 => 125 | 53 => 136 | 4 => 4 | 5 => 5 | 9 => 9 | n => n, fun | n => n⟩
theorem Tryd.lays125 : Go.Proofs.Lays.n125 Tryd.prog Tryd.lays125_ren := {
  mixed := by kernel_rfl
  f125 := Tryd.func84.trans (congrArg some (by kernel_rfl))
  f128 := Tryd.func98.trans (congrArg some (by kernel_rfl))
  f129 := Tryd.func99.trans (congrArg some (by kernel_rfl))
  t3 := Tryd.underlying3
  a3 := Tryd.isAgg3
  z3 := Tryd.sizeOf3
  v3 := Tryd.zeroValue3
  t4 := Tryd.underlying4
  a4 := Tryd.isAgg4
  z4 := Tryd.sizeOf4
  v4 := Tryd.zeroValue4
  t5 := Tryd.underlying5
  a5 := Tryd.isAgg5
  z5 := Tryd.sizeOf5
  v5 := Tryd.zeroValue5
  t9 := Tryd.underlying9
  a9 := Tryd.isAgg9
  z9 := Tryd.sizeOf9
  v9 := Tryd.zeroValue9
  t46 := Tryd.underlying124
  a46 := Tryd.isAgg124
  z46 := Tryd.sizeOf124
  v46 := Tryd.zeroValue124
  t51 := Tryd.underlying125
  a51 := Tryd.isAgg125
  z51 := Tryd.sizeOf125
  v51 := Tryd.zeroValue125
  t53 := Tryd.underlying136
  a53 := Tryd.isAgg136
  z53 := Tryd.sizeOf136
  v53 := Tryd.zeroValue136 }
/-- bits.Len: "Len returns the minimum number of bits required to represent x; the result is 0 for x == 0.": IT RETURNS 'Lib.bitLen x'; the world is as it was. (A uint has 64 bits in the model.) ITS CALLEE bits.Len64 IS MET BY ITS OWN CONTRACT OFF THE SHELF (lay that first). (LAID: no walk: one application.) -/
theorem Tryd.bits_Len (x : Int) (w : World) (h0 : 0 ≤ x) (h1 : x ≤ 18446744073709551615) :
    Calls Tryd.prog 84 #[.int .u64 x] w fun e w' => e = .returned (.int .i64 (Lib.bitLen x.toNat)) ∧ w' = w := Any.bits_Len Tryd.lays125 x w h0 h1
def Tryd.lays215_ren : Go.Shelf.Ren := ⟨fun | 215 => 85 | n => n, fun | 3 => 3 | 4 => 4 | n => n, fun | n => n⟩
theorem Tryd.lays215 : Go.Proofs.Lays.n215 Tryd.prog Tryd.lays215_ren := {
  mixed := by kernel_rfl
  f215 := Tryd.func85.trans (congrArg some (by kernel_rfl))
  t3 := Tryd.underlying3
  a3 := Tryd.isAgg3
  z3 := Tryd.sizeOf3
  v3 := Tryd.zeroValue3
  t4 := Tryd.underlying4
  a4 := Tryd.isAgg4
  z4 := Tryd.sizeOf4
  v4 := Tryd.zeroValue4 }
open Go.RowKit in
/-- cmp.isNaN at int: 'x != x': false. (LAID: no walk: one application.) -/
theorem Tryd.cmp_isNaN_int (x : Int) (w : World) :
    Calls Tryd.prog 85 #[.int .i64 x] w fun e w' => e = .returned (.bool false) ∧ w' = w := Any.cmp_isNaN_int Tryd.lays215 x w
def Tryd.lays122_ren : Go.Shelf.Ren := ⟨fun | 122 => 68 | 215 => 85 | n => n, fun | 3 => 3 | 4 => 4 | n => n, fun | n => n⟩
theorem Tryd.lays122 : Go.Proofs.Lays.n122 Tryd.prog Tryd.lays122_ren := {
  mixed := by kernel_rfl
  f122 := Tryd.func68.trans (congrArg some (by kernel_rfl))
  f215 := Tryd.func85.trans (congrArg some (by kernel_rfl))
  t3 := Tryd.underlying3
  a3 := Tryd.isAgg3
  z3 := Tryd.sizeOf3
  v3 := Tryd.zeroValue3
  t4 := Tryd.underlying4
  a4 := Tryd.isAgg4
  z4 := Tryd.sizeOf4
  v4 := Tryd.zeroValue4 }
open Go.RowKit in
/-- cmp.Compare at int: "Compare returns -1 if x is less than y, 0 if x equals y, +1 if x is greater than y.": IT RETURNS 'Lib.compareInt x y'; the world is as it was. (LAID: no walk: one application.) -/
theorem Tryd.cmp_Compare_int (x y : Int) (w : World) :
    Calls Tryd.prog 68 #[.int .i64 x, .int .i64 y] w fun e w' => e = .returned (.int .i64 (Lib.compareInt x y)) ∧ w' = w := Any.cmp_Compare_int Tryd.lays122 x y w
def Tryd.lays278_ren : Go.Shelf.Ren := ⟨fun | 278 => 86 | n => n, fun | 37 => 98 | 21 => 21 | 51 => 125 | 4 => 4 | 46 => 124 | 5 => 5 | n => n, fun | n => n⟩
theorem Tryd.lays278 : Go.Proofs.Lays.n278 Tryd.prog Tryd.lays278_ren := {
  mixed := by kernel_rfl
  f278 := Tryd.func86.trans (congrArg some (by kernel_rfl))
  t4 := Tryd.underlying4
  a4 := Tryd.isAgg4
  z4 := Tryd.sizeOf4
  v4 := Tryd.zeroValue4
  t5 := Tryd.underlying5
  a5 := Tryd.isAgg5
  z5 := Tryd.sizeOf5
  v5 := Tryd.zeroValue5
  t21 := Tryd.underlying21
  a21 := Tryd.isAgg21
  z21 := Tryd.sizeOf21
  v21 := Tryd.zeroValue21
  t37 := Tryd.underlying98
  a37 := Tryd.isAgg98
  z37 := Tryd.sizeOf98
  v37 := Tryd.zeroValue98
  t46 := Tryd.underlying124
  a46 := Tryd.isAgg124
  z46 := Tryd.sizeOf124
  v46 := Tryd.zeroValue124
  t51 := Tryd.underlying125
  a51 := Tryd.isAgg125
  z51 := Tryd.sizeOf125
  v51 := Tryd.zeroValue125 }
open Go.RowKit in
/-- unicode/utf8.appendRuneNonASCII (what AppendRune calls for all but ASCII), ONTO A ROW OF BYTES THAT THE CALL OWNS: every int32 that is no ASCII rune: 'Lib.runeCells r' goes in behind what the row holds. (LAID: no walk: one application.) -/
theorem Tryd.utf8_appendRuneNonASCII_row (B : Nat) (v : Value) (n : Nat) (xs : List Value) (r : Int) (hr0 : -2147483648 ≤ r) (hr1 : r ≤ 2147483647) (hna : r < 0 ∨ 128 ≤ r) (w : World) (hown : w.ownsRowF B 5 1 v n xs) (hlen : n + 4 ≤ 140737488355328) (hBw : B ≤ w.heap.size) :
    Calls Tryd.prog 86 #[v, .int .i32 r] w fun e w' => ∃ v', e = .returned v' ∧ w'.ownsRowF B 5 1 v' (n + (Lib.runeCells r).length) (xs ++ Lib.runeCells r) ∧ ∃ o, (w.alloc o).grownBy w' v.ownBlock := Any.utf8_appendRuneNonASCII_row Tryd.lays278 (by kernel_rfl) B v n xs r hr0 hr1 hna w hown hlen hBw
def Tryd.lays242_ren : Go.Shelf.Ren := ⟨fun | 242 => 77 | 278 => 86 | n => n, fun | 37 => 98 | 21 => 21 | 51 => 125 | 4 => 4 | 5 => 5 | 46 => 124 | n => n, fun | n => n⟩
theorem Tryd.lays242 : Go.Proofs.Lays.n242 Tryd.prog Tryd.lays242_ren := {
  mixed := by kernel_rfl
  f242 := Tryd.func77.trans (congrArg some (by kernel_rfl))
  f278 := Tryd.func86.trans (congrArg some (by kernel_rfl))
  t4 := Tryd.underlying4
  a4 := Tryd.isAgg4
  z4 := Tryd.sizeOf4
  v4 := Tryd.zeroValue4
  t5 := Tryd.underlying5
  a5 := Tryd.isAgg5
  z5 := Tryd.sizeOf5
  v5 := Tryd.zeroValue5
  t21 := Tryd.underlying21
  a21 := Tryd.isAgg21
  z21 := Tryd.sizeOf21
  v21 := Tryd.zeroValue21
  t37 := Tryd.underlying98
  a37 := Tryd.isAgg98
  z37 := Tryd.sizeOf98
  v37 := Tryd.zeroValue98
  t46 := Tryd.underlying124
  a46 := Tryd.isAgg124
  z46 := Tryd.sizeOf124
  v46 := Tryd.zeroValue124
  t51 := Tryd.underlying125
  a51 := Tryd.isAgg125
  z51 := Tryd.sizeOf125
  v51 := Tryd.zeroValue125 }
open Go.RowKit in
/-- unicode/utf8.AppendRune: "AppendRune appends the UTF-8 encoding of r to the end of p and returns the extended buffer. If the rune is out of range, it appends the encoding of RuneError.": ONTO A ROW OF BYTES THAT THE CALL OWNS (its head frozen or not): EVERY int32: 'Lib.runeCells r' goes in behind what the row holds; the world: one new block (the bytes as the call's variadic argument), then what 'append' does to the row. (LAID: no walk: one application.) -/
theorem Tryd.utf8_AppendRune_row (B : Nat) (v : Value) (n : Nat) (xs : List Value) (r : Int) (hr0 : -2147483648 ≤ r) (hr1 : r ≤ 2147483647) (w : World) (hown : w.ownsRowF B 5 1 v n xs) (hlen : n + 4 ≤ 140737488355328) (hBw : B ≤ w.heap.size) :
    Calls Tryd.prog 77 #[v, .int .i32 r] w fun e w' => ∃ v', e = .returned v' ∧ w'.ownsRowF B 5 1 v' (n + (Lib.runeCells r).length) (xs ++ Lib.runeCells r) ∧ ∃ o, (w.alloc o).grownBy w' v.ownBlock := Any.utf8_AppendRune_row Tryd.lays242 (by kernel_rfl) B v n xs r hr0 hr1 w hown hlen hBw
open Go.RowKit in
/-- unicode/utf8.appendRuneNonASCII (what AppendRune calls for all but ASCII), ONTO A ROW OF BYTES THAT THE CALL OWNS: every int32 that is no ASCII rune: 'Lib.runeCells r' goes in behind what the row holds. (LAID: no walk: one application.) -/
theorem Tryd.utf8_appendRuneNonASCII_plain (B : Nat) (v : Value) (n : Nat) (xs : List Value) (r : Int) (hr0 : -2147483648 ≤ r) (hr1 : r ≤ 2147483647) (hna : r < 0 ∨ 128 ≤ r) (w : World) (hown : w.ownsRow B 5 1 v n xs) (hlen : n + 4 ≤ 140737488355328) (hBw : B ≤ w.heap.size) :
    Calls Tryd.prog 86 #[v, .int .i32 r] w fun e w' => ∃ v', e = .returned v' ∧ w'.ownsRow B 5 1 v' (n + (Lib.runeCells r).length) (xs ++ Lib.runeCells r) ∧ ∃ o, (w.alloc o).grownBy w' v.ownBlock := Any.utf8_appendRuneNonASCII_plain Tryd.lays278 (by kernel_rfl) B v n xs r hr0 hr1 hna w hown hlen hBw
open Go.RowKit in
/-- unicode/utf8.AppendRune: "AppendRune appends the UTF-8 encoding of r to the end of p and returns the extended buffer. If the rune is out of range, it appends the encoding of RuneError.": ONTO A ROW OF BYTES THAT THE CALL OWNS (its head frozen or not): EVERY int32: 'Lib.runeCells r' goes in behind what the row holds; the world: one new block (the bytes as the call's variadic argument), then what 'append' does to the row. (LAID: no walk: one application.) -/
theorem Tryd.utf8_AppendRune_plain (B : Nat) (v : Value) (n : Nat) (xs : List Value) (r : Int) (hr0 : -2147483648 ≤ r) (hr1 : r ≤ 2147483647) (w : World) (hown : w.ownsRow B 5 1 v n xs) (hlen : n + 4 ≤ 140737488355328) (hBw : B ≤ w.heap.size) :
    Calls Tryd.prog 77 #[v, .int .i32 r] w fun e w' => ∃ v', e = .returned v' ∧ w'.ownsRow B 5 1 v' (n + (Lib.runeCells r).length) (xs ++ Lib.runeCells r) ∧ ∃ o, (w.alloc o).grownBy w' v.ownBlock := Any.utf8_AppendRune_plain Tryd.lays242 (by kernel_rfl) B v n xs r hr0 hr1 w hown hlen hBw
def Tryd.lays195_ren : Go.Shelf.Ren := ⟨fun | 195 => 80 | n => n, fun | 9 => 9 | 3 => 3 | 0 => 0 | 4 => 4 | n => n, fun | n => n⟩
theorem Tryd.lays195 : Go.Proofs.Lays.n195 Tryd.prog Tryd.lays195_ren := {
  mixed := by kernel_rfl
  f195 := Tryd.func80.trans (congrArg some (by kernel_rfl))
  t0 := Tryd.underlying0
  a0 := Tryd.isAgg0
  z0 := Tryd.sizeOf0
  v0 := Tryd.zeroValue0
  t3 := Tryd.underlying3
  a3 := Tryd.isAgg3
  z3 := Tryd.sizeOf3
  v3 := Tryd.zeroValue3
  t4 := Tryd.underlying4
  a4 := Tryd.isAgg4
  z4 := Tryd.sizeOf4
  v4 := Tryd.zeroValue4
  t9 := Tryd.underlying9
  a9 := Tryd.isAgg9
  z9 := Tryd.sizeOf9
  v9 := Tryd.zeroValue9 }
open Go.RowKit in
/-- unicode/utf8.RuneCountInString: "RuneCountInString is like RuneCount but its input is a string." ("RuneCount returns the number of runes in p. Erroneous and short encodings are treated as single runes of width 1 byte."): EVERY STRING, valid UTF-8 or not: 'Lib.runeCount s' (plain Lean over the model's own 'Utf8.decode'; 'Lib.runeCount_le': at most len(s); 'Lib.runeCount_ascii': on ASCII: len(s)). THE ONE CONDITION: len(s) below 2^63 - 1 (the counter does not wrap): the form's reach pays it. THE WORLD BEHIND THE CALL: ONE BLOCK MORE: the model's iterator over s, at its end: all else as it was. (LAID: no walk: one application.) -/
theorem Tryd.utf8_RuneCountInString (s : ByteArray) (w : World) (hs : s.size < 9223372036854775807) :
    Calls Tryd.prog 80 #[.string s] w fun e w' => e = .returned (.int .i64 (Lib.runeCount s)) ∧ ∃ pos, w' = w.iter s pos := Any.utf8_RuneCountInString Tryd.lays195 s w hs
def Tryd.lays129_ren : Go.Shelf.Ren := ⟨fun | 129 => 99 | n => n, fun | 53 => 136 | 3 => 3 | 4 => 4 | 46 => 124 | 5 => 5 | 9 => 9 | n => n, fun | n => n⟩
theorem Tryd.lays129 : Go.Proofs.Lays.n129 Tryd.prog Tryd.lays129_ren := {
  mixed := by kernel_rfl
  f129 := Tryd.func99.trans (congrArg some (by kernel_rfl))
  t3 := Tryd.underlying3
  a3 := Tryd.isAgg3
  z3 := Tryd.sizeOf3
  v3 := Tryd.zeroValue3
  t4 := Tryd.underlying4
  a4 := Tryd.isAgg4
  z4 := Tryd.sizeOf4
  v4 := Tryd.zeroValue4
  t5 := Tryd.underlying5
  a5 := Tryd.isAgg5
  z5 := Tryd.sizeOf5
  v5 := Tryd.zeroValue5
  t9 := Tryd.underlying9
  a9 := Tryd.isAgg9
  z9 := Tryd.sizeOf9
  v9 := Tryd.zeroValue9
  t46 := Tryd.underlying124
  a46 := Tryd.isAgg124
  z46 := Tryd.sizeOf124
  v46 := Tryd.zeroValue124
  t53 := Tryd.underlying136
  a53 := Tryd.isAgg136
  z53 := Tryd.sizeOf136
  v53 := Tryd.zeroValue136 }
/-- bits.Len64: "Len64 returns the minimum number of bits required to represent x; the result is 0 for x == 0.": IT RETURNS 'Lib.bitLen x'; the world is as it was. ('h0', 'h1': x is a uint64.) (LAID: no walk: one application.) -/
theorem Tryd.bits_Len64 (x : Int) (w : World) (h0 : 0 ≤ x) (h1 : x ≤ 18446744073709551615) :
    Calls Tryd.prog 99 #[.int .u64 x] w fun e w' => e = .returned (.int .i64 (Lib.bitLen x.toNat)) ∧ w' = w := Any.bits_Len64 Tryd.lays129 x w h0 h1
open Go.RowKit Go.Lib in
theorem Tryd.utf8_RuneCountInString_ascii (s : ByteArray) (w : World) (hs : s.size < 4294967281) (hascii : ∀ (j : Nat) b, s.data.toList[j]? = some b → b.toNat < 128) :
    Calls Tryd.prog 80 #[.string s] w fun e w' => e = .returned (.int .i64 s.size) ∧ w' = w.iter s s.size := Any.utf8_RuneCountInString_ascii Tryd.lays195 s w hs hascii
def Tryd.lays260_ren : Go.Shelf.Ren := ⟨fun | 260 => 87 | n => n, fun | 9 => 9 | 21 => 21 | 3 => 3 | 4 => 4 | 5 => 5 | 119 => 137 | 0 => 0 | 46 => 124 | 139 => 140 | 138 => 139 | n => n, fun | 3 => 0 | 4 => 1 | n => n⟩
theorem Tryd.lays260 : Go.Proofs.Lays.n260 Tryd.prog Tryd.lays260_ren := {
  mixed := by kernel_rfl
  f260 := Tryd.func87.trans (congrArg some (by kernel_rfl))
  t0 := Tryd.underlying0
  a0 := Tryd.isAgg0
  z0 := Tryd.sizeOf0
  v0 := Tryd.zeroValue0
  t3 := Tryd.underlying3
  a3 := Tryd.isAgg3
  z3 := Tryd.sizeOf3
  v3 := Tryd.zeroValue3
  t4 := Tryd.underlying4
  a4 := Tryd.isAgg4
  z4 := Tryd.sizeOf4
  v4 := Tryd.zeroValue4
  t5 := Tryd.underlying5
  a5 := Tryd.isAgg5
  z5 := Tryd.sizeOf5
  v5 := Tryd.zeroValue5
  t9 := Tryd.underlying9
  a9 := Tryd.isAgg9
  z9 := Tryd.sizeOf9
  v9 := Tryd.zeroValue9
  t21 := Tryd.underlying21
  a21 := Tryd.isAgg21
  z21 := Tryd.sizeOf21
  v21 := Tryd.zeroValue21
  t46 := Tryd.underlying124
  a46 := Tryd.isAgg124
  z46 := Tryd.sizeOf124
  v46 := Tryd.zeroValue124
  t119 := Tryd.underlying137
  a119 := Tryd.isAgg137
  z119 := Tryd.sizeOf137
  t138 := Tryd.underlying139
  a138 := Tryd.isAgg139
  z138 := Tryd.sizeOf139
  v138 := Tryd.zeroValue139
  t139 := Tryd.underlying140
  a139 := Tryd.isAgg140
  z139 := Tryd.sizeOf140
  v139 := Tryd.zeroValue140
  g3 := by kernel_rfl
  g4 := by kernel_rfl }
open Go.RowKit Go.Lib in
theorem Tryd.utf8_decodeRuneInStringSlow (s : ByteArray) (w : World) (hT : Lib.Utf8Tabs 0 1 w) :
    Calls Tryd.prog 87 #[.string s] w fun e w' => e = .returned (.tuple #[.int .i32 (Lib.decodeGo s).1, .int .i64 (Lib.decodeGo s).2]) ∧ Below w.heap.size w w' := Any.utf8_decodeRuneInStringSlow Tryd.lays260 s w hT
def Tryd.lays197_ren : Go.Shelf.Ren := ⟨fun | 197 => 78 | 260 => 87 | n => n, fun | 9 => 9 | 21 => 21 | 3 => 3 | 4 => 4 | 5 => 5 | 105 => 101 | 119 => 137 | 0 => 0 | 46 => 124 | 139 => 140 | 138 => 139 | n => n, fun | 3 => 0 | 4 => 1 | n => n⟩
theorem Tryd.lays197 : Go.Proofs.Lays.n197 Tryd.prog Tryd.lays197_ren := {
  mixed := by kernel_rfl
  f197 := Tryd.func78.trans (congrArg some (by kernel_rfl))
  f260 := Tryd.func87.trans (congrArg some (by kernel_rfl))
  t0 := Tryd.underlying0
  a0 := Tryd.isAgg0
  z0 := Tryd.sizeOf0
  v0 := Tryd.zeroValue0
  t3 := Tryd.underlying3
  a3 := Tryd.isAgg3
  z3 := Tryd.sizeOf3
  v3 := Tryd.zeroValue3
  t4 := Tryd.underlying4
  a4 := Tryd.isAgg4
  z4 := Tryd.sizeOf4
  v4 := Tryd.zeroValue4
  t5 := Tryd.underlying5
  a5 := Tryd.isAgg5
  z5 := Tryd.sizeOf5
  v5 := Tryd.zeroValue5
  t9 := Tryd.underlying9
  a9 := Tryd.isAgg9
  z9 := Tryd.sizeOf9
  v9 := Tryd.zeroValue9
  t21 := Tryd.underlying21
  a21 := Tryd.isAgg21
  z21 := Tryd.sizeOf21
  v21 := Tryd.zeroValue21
  t46 := Tryd.underlying124
  a46 := Tryd.isAgg124
  z46 := Tryd.sizeOf124
  v46 := Tryd.zeroValue124
  t105 := Tryd.underlying101
  a105 := Tryd.isAgg101
  z105 := Tryd.sizeOf101
  v105 := Tryd.zeroValue101
  t119 := Tryd.underlying137
  a119 := Tryd.isAgg137
  z119 := Tryd.sizeOf137
  t138 := Tryd.underlying139
  a138 := Tryd.isAgg139
  z138 := Tryd.sizeOf139
  v138 := Tryd.zeroValue139
  t139 := Tryd.underlying140
  a139 := Tryd.isAgg140
  z139 := Tryd.sizeOf140
  v139 := Tryd.zeroValue140
  g3 := by kernel_rfl
  g4 := by kernel_rfl }
open Go.RowKit Go.Lib in
/-- **unicode/utf8.DecodeRuneInString AT EVERY STRING.** (LAID: no walk: one application.) -/
theorem Tryd.utf8_DecodeRuneInString (s : ByteArray) (w : World) (hT : Lib.Utf8Tabs 0 1 w) :
    Calls Tryd.prog 78 #[.string s] w fun e w' => e = .returned (.tuple #[.int .i32 (Lib.decodeGo s).1, .int .i64 (Lib.decodeGo s).2]) ∧ Below w.heap.size w w' := Any.utf8_DecodeRuneInString Tryd.lays197 s w hT
def Tryd.laysSlM5_f82_ren : Go.Shelf.Ren := ⟨fun | 5 => 82 | 8 => 84 | 7 => 89 | 19 => 98 | 20 => 99 | 10 => 101 | 11 => 102 | 12 => 103 | 13 => 104 | 14 => 105 | 15 => 106 | 16 => 107 | 17 => 108 | 18 => 109 | 30 => 115 | 31 => 111 | 32 => 112 | 33 => 116 | 34 => 117 | 35 => 118 | 40 => 120 | n => n, fun | 23 => 120 | 25 => 2 | 3 => 3 | 32 => 124 | 22 => 120 | 0 => 0 | 44 => 125 | 46 => 136 | 4 => 4 | 36 => 129 | 35 => 128 | 41 => 43 | 5 => 5 | 9 => 9 | 53 => 148 | 57 => 152 | 63 => 157 | 64 => 158 | n => n, fun | n => n⟩
theorem Tryd.laysSlM5_f82 : Go.Proofs.SlLaysM.n5 Tryd.prog Tryd.laysSlM5_f82_ren := {
  mixed := by kernel_rfl
  f5 := ⟨Tryd.f82.name, by decide, Tryd.func82.trans (congrArg some (by kernel_rfl))⟩
  f7 := ⟨Tryd.f89.name, by decide, Tryd.func89.trans (congrArg some (by kernel_rfl))⟩
  f8 := Tryd.func84.trans (congrArg some (by kernel_rfl))
  f10 := ⟨Tryd.f101.name, by decide, Tryd.func101.trans (congrArg some (by kernel_rfl))⟩
  f11 := ⟨Tryd.f102.name, by decide, Tryd.func102.trans (congrArg some (by kernel_rfl))⟩
  f12 := ⟨Tryd.f103.name, by decide, Tryd.func103.trans (congrArg some (by kernel_rfl))⟩
  f13 := ⟨Tryd.f104.name, by decide, Tryd.func104.trans (congrArg some (by kernel_rfl))⟩
  f14 := ⟨Tryd.f105.name, by decide, Tryd.func105.trans (congrArg some (by kernel_rfl))⟩
  f15 := ⟨Tryd.f106.name, by decide, Tryd.func106.trans (congrArg some (by kernel_rfl))⟩
  f16 := ⟨Tryd.f107.name, by decide, Tryd.func107.trans (congrArg some (by kernel_rfl))⟩
  f17 := ⟨Tryd.f108.name, by decide, Tryd.func108.trans (congrArg some (by kernel_rfl))⟩
  f18 := ⟨Tryd.f109.name, by decide, Tryd.func109.trans (congrArg some (by kernel_rfl))⟩
  f19 := Tryd.func98.trans (congrArg some (by kernel_rfl))
  f20 := Tryd.func99.trans (congrArg some (by kernel_rfl))
  f30 := ⟨Tryd.f115.name, by decide, Tryd.func115.trans (congrArg some (by kernel_rfl))⟩
  f31 := Tryd.func111.trans (congrArg some (by kernel_rfl))
  f32 := Tryd.func112.trans (congrArg some (by kernel_rfl))
  f33 := ⟨Tryd.f116.name, by decide, Tryd.func116.trans (congrArg some (by kernel_rfl))⟩
  f34 := ⟨Tryd.f117.name, by decide, Tryd.func117.trans (congrArg some (by kernel_rfl))⟩
  f35 := ⟨Tryd.f118.name, by decide, Tryd.func118.trans (congrArg some (by kernel_rfl))⟩
  f40 := ⟨Tryd.f120.name, by decide, Tryd.func120.trans (congrArg some (by kernel_rfl))⟩
  t0 := Tryd.underlying0
  a0 := Tryd.isAgg0
  z0 := Tryd.sizeOf0
  v0 := Tryd.zeroValue0
  t3 := Tryd.underlying3
  a3 := Tryd.isAgg3
  z3 := Tryd.sizeOf3
  v3 := Tryd.zeroValue3
  t4 := Tryd.underlying4
  a4 := Tryd.isAgg4
  z4 := Tryd.sizeOf4
  v4 := Tryd.zeroValue4
  t5 := Tryd.underlying5
  a5 := Tryd.isAgg5
  z5 := Tryd.sizeOf5
  v5 := Tryd.zeroValue5
  t9 := Tryd.underlying9
  a9 := Tryd.isAgg9
  z9 := Tryd.sizeOf9
  v9 := Tryd.zeroValue9
  t22 := Tryd.underlying120
  a22 := Tryd.isAgg120
  z22 := Tryd.sizeOf120
  v22 := Tryd.zeroValue120
  t23 := Tryd.underlying120
  a23 := Tryd.isAgg120
  z23 := Tryd.sizeOf120
  v23 := Tryd.zeroValue120
  t25 := Tryd.underlying2
  a25 := Tryd.isAgg2
  z25 := Tryd.sizeOf2
  v25 := Tryd.zeroValue2
  t32 := Tryd.underlying124
  a32 := Tryd.isAgg124
  z32 := Tryd.sizeOf124
  v32 := Tryd.zeroValue124
  t35 := Tryd.underlying128
  a35 := Tryd.isAgg128
  z35 := Tryd.sizeOf128
  v35 := Tryd.zeroValue128
  t36 := Tryd.underlying129
  a36 := Tryd.isAgg129
  z36 := Tryd.sizeOf129
  v36 := Tryd.zeroValue129
  t41 := Tryd.underlying43
  a41 := Tryd.isAgg43
  z41 := Tryd.sizeOf43
  v41 := Tryd.zeroValue43
  t44 := Tryd.underlying125
  a44 := Tryd.isAgg125
  z44 := Tryd.sizeOf125
  v44 := Tryd.zeroValue125
  t46 := Tryd.underlying136
  a46 := Tryd.isAgg136
  z46 := Tryd.sizeOf136
  v46 := Tryd.zeroValue136
  t53 := Tryd.underlying148
  a53 := Tryd.isAgg148
  z53 := Tryd.sizeOf148
  v53 := Tryd.zeroValue148
  t57 := Tryd.underlying152
  a57 := Tryd.isAgg152
  z57 := Tryd.sizeOf152
  v57 := Tryd.zeroValue152
  t63 := Tryd.underlying157
  a63 := Tryd.isAgg157
  z63 := Tryd.sizeOf157
  v63 := Tryd.zeroValue157
  t64 := Tryd.underlying158
  a64 := Tryd.isAgg158
  z64 := Tryd.sizeOf158
  v64 := Tryd.zeroValue158 }
open Go.Sort Go.RowKit in
theorem Tryd.slices_Sort_int (blk off cap : Nat) (zs : List Int) (w : World) (hH : Holds (Value.int .i64) w blk off zs.toArray) (hblk : blk < w.heap.size) (hsz : zs.length < 4611686018427387904) :
    Calls Tryd.prog 82 #[.slice (some ⟨blk, off, none⟩) zs.length cap] w fun e w' =>
      e = .returned (.tuple #[]) ∧ ∃ n os, w' = grow (putRow (Value.int .i64) (Sort.ahead w n) blk off (zs.mergeSort fun x y => decide (x ≤ y)).toArray) os := AnyM.slices_Sort_int Tryd.laysSlM5_f82 blk off cap zs w hH hblk hsz
open Go.RowKit Go.Sort in
/-- .. and plain. (LAID AT THE INSTANCE 'slices.Sort[[]int64,int64]': no walk: one application.) -/
theorem Tryd.slices_Sort_int_none (p : Option Addr) (cap : Nat) (w : World) :
    Calls Tryd.prog 82 #[.slice p 0 cap] w fun e w' => e = .returned (.tuple #[]) ∧ w' = w := AnyM.slices_Sort_int_none Tryd.laysSlM5_f82 p cap w
def Tryd.laysValid_ren : Go.Shelf.Ren := ⟨fun | 196 => 88 | 259 => 100 | n => n, fun | 9 => 9 | 4 => 4 | 3 => 3 | 5 => 5 | 12 => 12 | 119 => 137 | 0 => 0 | 46 => 124 | 139 => 140 | 138 => 139 | 53 => 136 | n => n, fun | 3 => 0 | 4 => 1 | n => n⟩
theorem Tryd.laysValid : Go.Proofs.Lays.n196 Tryd.prog Tryd.laysValid_ren := {
  mixed := by kernel_rfl
  f196 := Tryd.func88.trans (congrArg some (by kernel_rfl))
  f259 := Tryd.func100.trans (congrArg some (by kernel_rfl))
  t0 := Tryd.underlying0
  a0 := Tryd.isAgg0
  z0 := Tryd.sizeOf0
  v0 := Tryd.zeroValue0
  t3 := Tryd.underlying3
  a3 := Tryd.isAgg3
  z3 := Tryd.sizeOf3
  v3 := Tryd.zeroValue3
  t4 := Tryd.underlying4
  a4 := Tryd.isAgg4
  z4 := Tryd.sizeOf4
  v4 := Tryd.zeroValue4
  t5 := Tryd.underlying5
  a5 := Tryd.isAgg5
  z5 := Tryd.sizeOf5
  v5 := Tryd.zeroValue5
  t9 := Tryd.underlying9
  a9 := Tryd.isAgg9
  z9 := Tryd.sizeOf9
  v9 := Tryd.zeroValue9
  t12 := Tryd.underlying12
  a12 := Tryd.isAgg12
  z12 := Tryd.sizeOf12
  v12 := Tryd.zeroValue12
  t46 := Tryd.underlying124
  a46 := Tryd.isAgg124
  z46 := Tryd.sizeOf124
  v46 := Tryd.zeroValue124
  t53 := Tryd.underlying136
  a53 := Tryd.isAgg136
  z53 := Tryd.sizeOf136
  v53 := Tryd.zeroValue136
  t119 := Tryd.underlying137
  a119 := Tryd.isAgg137
  z119 := Tryd.sizeOf137
  t138 := Tryd.underlying139
  a138 := Tryd.isAgg139
  z138 := Tryd.sizeOf139
  v138 := Tryd.zeroValue139
  t139 := Tryd.underlying140
  a139 := Tryd.isAgg140
  z139 := Tryd.sizeOf140
  v139 := Tryd.zeroValue140
  g3 := by kernel_rfl
  g4 := by kernel_rfl }
open Go.RowKit Go.Lib in
/-- unicode/utf8.ValidString. -/
theorem Tryd.utf8_ValidString (s : ByteArray) (w : World) (hs : s.size ≤ 9223372036854775807) (hT : Lib.Utf8Tabs 0 1 w) :
    Calls Tryd.prog 88 #[.string s] w fun e w' => e = .returned (.bool (Lib.validD s.data.toList)) ∧ Below w.heap.size w w' := Any.utf8_ValidString Tryd.laysValid s w hs hT
end Go.Proofs
