/-
  Contracts of package point (1): what the worlds' relations are; which numbers are signs'; a fault; signs as a text.
  Contracts of package point (2): signs as a text.
  Contracts of package point (3): where a text has no sign.
  Contracts of package point (4): a text's signs where there is a place without one; the document's example.
  The document's sign as bytes; what the law PointSigns says.
  Contracts of package point (5): whether a text's bytes are all below 128, whether it is made of signs, how many.
  Plain facts: a sign's bytes are decoded as that sign; where the first place without a sign is, behind a text of signs.
  What the rows' list of tables gives: the tables of unicode/utf8 stand as they are laid.
  Lists of numbers in memory, and their text.
  Plain facts: the signs of a text.
  Contracts of package point (6): the signs of a text that is made of signs.
  Lists that are the same; the document's text of signs.
-/
import Derived.Test.YtbdjncnofpbkkaaBase
import Derived.Test.YtbdjncnofpbkkaaShelf


import Derived.WalkKit
import Derived.ProofKit
import Derived.OpenShut
import Derived.ShutString
import Derived.Below
import Derived.Outline
import Derived.Lib.Hide
import Derived.WalkLawsBesides
import Derived.WalkSpells
import Derived.BigQuiet
import Derived.Deep.QuietTactic
import Derived.Laws.BytesArg
import Derived.Laws.MakeOwn
import Derived.Laws.StructEq
import Derived.Lib.RuneBytes
import Derived.Lib.TrimUEq
import Derived.Lib.MapLaws
import Derived.Lib.ValidLaws
import Derived.LaidMore
import Derived.Lay
import Derived.SevenTiedAt
import Derived.Stop.Joined
import Derived.PinnedBridge
import Derived.Lib.LaidU8T
import Derived.Lib.RuneCount
import Derived.WalkSmall
import Derived.Lib.OthersKept
namespace Go.Proofs.Ytbdjncnofpbkkaa
open Go Go.ChangeShapes Go.WideShapes Go.ChangeAt Go.RowKit
set_option linter.unusedSimpArgs false
set_option linter.unusedVariables false

/-- Is it a sign's number? -/
def isSign (p : Int) : Bool := decide (0 ≤ p ∧ p < 55296) || decide (57343 < p ∧ p ≤ 1114111)
theorem isSign_iff (p : Int) : isSign p = true ↔ (0 ≤ p ∧ p < 55296) ∨ (57343 < p ∧ p ≤ 1114111) := by simp [isSign]
theorem isSign_no (p : Int) : isSign p = false ↔ ¬ ((0 ≤ p ∧ p < 55296) ∨ (57343 < p ∧ p ≤ 1114111)) := by rw [← isSign_iff]; simp

theorem bad_yes (er pl : Int) (w : World) (h : (er != 0) = true) : Calls Try.prog 26 #[.agg #[.int .i64 er, .int .i64 pl]] w fun e w' => e = .returned (.bool true) ∧ Ext w w' := by
  go_enter Try.func26, Try.ntmps26
  go_wp2
  go_ret
  exact ⟨by simp_all, (by repeat (first | exact Ext.refl _ | apply Ext.drew | refine Ext.alloc ?_ _))⟩
theorem bad_no (er pl : Int) (w : World) (h : (er != 0) = false) : Calls Try.prog 26 #[.agg #[.int .i64 er, .int .i64 pl]] w fun e w' => e = .returned (.bool false) ∧ Ext w w' := by
  go_enter Try.func26, Try.ntmps26
  go_wp2
  go_ret
  exact ⟨by simp_all, (by repeat (first | exact Ext.refl _ | apply Ext.drew | refine Ext.alloc ?_ _))⟩

/-! ### Signs as a text -/
/-- Signs' bytes, one sign behind the other. -/
def encs (l : List Int) : List UInt8 := l.flatMap Lib.encodeRune
theorem encs_nil : encs [] = [] := rfl
theorem encs_one (p : Int) : encs [p] = Lib.encodeRune p := by simp [encs]
theorem encs_app (a b : List Int) : encs (a ++ b) = encs a ++ encs b := by simp [encs]
theorem encs_cons (p : Int) (l : List Int) : encs (p :: l) = Lib.encodeRune p ++ encs l := by simp [encs]
theorem enc_le (p : Int) : (Lib.encodeRune p).length ≤ 4 := by
  have := (Lib.runeCells_le p).2
  rwa [Lib.runeCells_length] at this
theorem encs_le : ∀ l : List Int, (encs l).length ≤ 4 * l.length
  | [] => by simp [encs]
  | p :: l => by
    have h := encs_le l
    have h2 := enc_le p
    rw [encs_cons, List.length_append, List.length_cons]
    omega
theorem info_u8 : (Try.prog.info? 5).map (fun i => (i.zero, i.size, i.bytes)) = some (some (.int .u8 0), 1, 1) := by kernel_rfl
theorem make_row (k : Nat) (hk : k ≤ 281474976710656) (w : World) : ∃ w', (Instr.makeSlice 52 (.int .i64 0) (.int .i64 (k : Int))).run Try.prog w = .ok (.slice (some ⟨w.heap.size, 0, none⟩) 0 k) w' ∧
    w'.ownsRow w.heap.size 5 1 (.slice (some ⟨w.heap.size, 0, none⟩) 0 k) 0 [] ∧ w.grownBy w' none := by
  obtain ⟨i, hi, h2⟩ := Option.map_eq_some_iff.1 info_u8
  obtain ⟨h3, h4⟩ := Prod.mk.inj h2
  obtain ⟨h5, h6⟩ := Prod.mk.inj h4
  exact run_make_own (P := Try.prog) (w := w) w.heap.size 52 5 i (.int .u8 0) 1 Try.underlying52 hi h3 h5 .i64 .i64 k (by rw [h6]; omega) (by simp [maxLen]; omega) (Nat.le_refl _)
theorem nums_bytes (bs : List UInt8) : strOfNums (bs.map fun b => (b.toNat : Int)) = ⟨bs.toArray⟩ := by
  unfold strOfNums
  congr 2
  rw [List.map_map]
  conv => rhs; rw [← List.map_id bs]
  apply List.map_congr_left
  intro x _
  simp
theorem own_string {w : World} {B : Nat} {v : Value} {n : Nat} {bs : List UInt8} (h : w.ownsRow B 5 1 v n (Lib.byteCells bs)) : (convert 52 9 v).run Try.prog w = .ok (.string ⟨bs.toArray⟩) w := by
  obtain ⟨hl, ⟨rfl, rfl⟩ | ⟨g, cap, cur, rfl, hg, hh, hn, hm, hs, ht⟩⟩ := h
  · have e : bs = [] := by simpa [Lib.byteCells] using hl
    subst e
    exact run_convert_bytes_nil w 52 5 Try.underlying52 Try.underlying5 0 0 9 Try.underlying9
  · have hbl : bs.length = n := by simpa [Lib.byteCells] using hl
    have hr := run_convert_bytes_arg w 52 5 Try.underlying52 Try.underlying5 g 0 n cap (bs.map fun b => (b.toNat : Int)) (by simpa using hbl) (fun i hi => by
      have hi2 : i < bs.length := by omega
      have e1 : (Lib.byteCells bs)[i]? = some (.int .u8 (bs[i].toNat : Int)) := by simp [Lib.byteCells, hi2]
      rw [← ht, List.getElem?_take, if_pos (by omega)] at e1
      have e2 : w.cell? ⟨g, 0 + i, none⟩ = cur.toList[i]? := by simp [World.cell?, hh]
      rw [e2, e1]
      simp [List.getD, hi2]) 9 Try.underlying9
    rw [hr, nums_bytes]
end Go.Proofs.Ytbdjncnofpbkkaa
namespace Go.Proofs.Ytbdjncnofpbkkaa
open Go Go.ChangeShapes Go.WideShapes Go.ChangeAt Go.RowKit
set_option linter.unusedSimpArgs false
set_option linter.unusedVariables false

/-- Are all signs' numbers? -/
def allSigns (zs : List Int) : Bool := zs.all isSign
/-- What the text of some numbers is. -/
def textOut (zs : List Int) : ByteArray := if allSigns zs then ⟨(encs zs).toArray⟩ else ⟨#[]⟩
theorem textOut_yes {zs : List Int} (h : allSigns zs = true) : textOut zs = ⟨(encs zs).toArray⟩ := by unfold textOut; rw [if_pos h]
theorem textOut_no {zs : List Int} (h : allSigns zs = false) : textOut zs = ⟨#[]⟩ := by unfold textOut; rw [if_neg (by rw [h]; decide)]
end Go.Proofs.Ytbdjncnofpbkkaa
namespace Go.Proofs.Ytbdjncnofpbkkaa
open Go Go.ChangeShapes Go.WideShapes Go.ChangeAt Go.RowKit
set_option linter.unusedSimpArgs false
set_option linter.unusedVariables false

/-- The first place at which there is no sign, a being the place of the first byte; -1: there is none. -/
def badGo : Nat → Nat → List UInt8 → Int
  | 0, _, _ => -1
  | n + 1, a, l => if l = [] then -1 else if (Lib.decodeL l).1 = 65533 ∧ (Lib.decodeL l).2 = 1 then a else badGo n (a + (Lib.decodeL l).2) (l.drop (Lib.decodeL l).2)
def badL (a : Nat) (l : List UInt8) : Int := badGo l.length a l
theorem badGo_nil : ∀ n a, badGo n a [] = -1
  | 0, _ => rfl
  | _ + 1, _ => by rw [badGo, if_pos rfl]
theorem badGo_fuel : ∀ (n m a : Nat) (l : List UInt8), l.length ≤ n → l.length ≤ m → badGo n a l = badGo m a l
  | 0, m, a, l, h, _ => by
    have e : l = [] := List.eq_nil_of_length_eq_zero (by omega)
    subst e
    rw [badGo_nil, badGo_nil]
  | n + 1, 0, a, l, _, h => by
    have e : l = [] := List.eq_nil_of_length_eq_zero (by omega)
    subst e
    rw [badGo_nil, badGo_nil]
  | n + 1, m + 1, a, l, h, h2 => by
    rw [badGo, badGo]
    by_cases e : l = []
    · rw [if_pos e, if_pos e]
    · rw [if_neg e, if_neg e]
      have h1 := Lib.decodeL_width l
      have h3 : 0 < l.length := List.length_pos_iff.2 e
      rw [badGo_fuel n m _ (l.drop _) (by rw [List.length_drop]; omega) (by rw [List.length_drop]; omega)]
theorem badL_nil (a : Nat) : badL a [] = -1 := rfl
theorem badL_step (a : Nat) (l : List UInt8) (h : l ≠ []) : badL a l = if (Lib.decodeL l).1 = 65533 ∧ (Lib.decodeL l).2 = 1 then (a : Int) else badL (a + (Lib.decodeL l).2) (l.drop (Lib.decodeL l).2) := by
  have h1 := Lib.decodeL_width l
  have h3 : 0 < l.length := List.length_pos_iff.2 h
  unfold badL
  obtain ⟨n, hn⟩ : ∃ n, l.length = n + 1 := ⟨l.length - 1, by omega⟩
  rw [hn, badGo, if_neg h, badGo_fuel n (l.drop _).length _ _ (by rw [List.length_drop]; omega) (Nat.le_refl _)]
theorem extract_drop (s : ByteArray) (a : Nat) (h : a ≤ s.size) : (s.extract a s.size).data.toList = s.data.toList.drop a := by
  rw [ByteArray.data_extract, Array.toList_extract]
  apply List.take_of_length_le
  have e : s.data.toList.length = s.size := rfl
  rw [List.length_drop, e]
  exact Nat.le_refl _
theorem decodeGo_drop (s : ByteArray) (a : Nat) (h : a < s.size) : Lib.decodeGo (s.extract a s.size) = Lib.decodeL (s.data.toList.drop a) := by
  have hs : (s.extract a s.size).size ≠ 0 := by simp [ByteArray.size_extract]; omega
  unfold Lib.decodeGo
  rw [if_neg hs, ← extract_drop s a (by omega)]
  rfl
/-- A fault's number and place, by the place; -1: none. -/
def fNum (a : Int) : Int := if a < 0 then 0 else 2
def fPlace (a : Int) : Int := if a < 0 then 0 else a
theorem fNum_no {a : Int} (h : a < 0) : fNum a = 0 := by unfold fNum; rw [if_pos h]
theorem fNum_yes {a : Int} (h : ¬ a < 0) : fNum a = 2 := by unfold fNum; rw [if_neg h]
theorem fPlace_no {a : Int} (h : a < 0) : fPlace a = 0 := by unfold fPlace; rw [if_pos h]
theorem fPlace_yes {a : Int} (h : ¬ a < 0) : fPlace a = a := by unfold fPlace; rw [if_neg h]
/-- The tables of unicode/utf8 stand as they are laid. -/
def Tabs (w : World) : Prop := Lib.Utf8Tabs 0 1 w
theorem Tabs.ext {w w' : World} (h : Tabs w) (k : Ext w w') : Tabs w' := Utf8Tabs_below h k
theorem set_two {w : World} {b : Nat} {x y : Value} {T : TypeId} (h : w.heap[b]? = some (.cells #[x, y] T (0, 0))) (u v : Value) :
    ((w.setCell ⟨b, 0, none⟩ u).setCell ⟨b, 1, none⟩ v).heap[b]? = some (.cells #[u, v] T (0, 0)) := by
  have hlt : b < w.heap.size := lt_of_block h
  have h' : w.heap[b] = .cells #[x, y] T (0, 0) := by simpa [Array.getElem?_eq_getElem hlt] using h
  have hm : (w.setCell ⟨b, 0, none⟩ u).heap[b]? = some (.cells #[u, y] T (0, 0)) := by
    show (w.heap.modify b _)[b]? = _
    rw [Array.getElem?_eq_getElem (by simpa using hlt), Array.getElem_modify_self, h']
    rfl
  have hlt2 : b < (w.setCell ⟨b, 0, none⟩ u).heap.size := lt_of_block hm
  have hm' : (w.setCell ⟨b, 0, none⟩ u).heap[b] = .cells #[u, y] T (0, 0) := by simpa [Array.getElem?_eq_getElem hlt2] using hm
  show ((w.setCell ⟨b, 0, none⟩ u).heap.modify b _)[b]? = _
  rw [Array.getElem?_eq_getElem (by simpa using hlt2), Array.getElem_modify_self, hm']
  rfl
end Go.Proofs.Ytbdjncnofpbkkaa
namespace Go.Proofs.Ytbdjncnofpbkkaa
open Go Go.ChangeShapes Go.WideShapes Go.ChangeAt Go.RowKit
set_option linter.unusedSimpArgs false
set_option linter.unusedVariables false

theorem one_cells (p : Int) (w : World) : ∀ (j : Nat) z, [p][j]? = some z → (w.alloc (.cells #[.int .i32 p] 21)).cell? ⟨w.heap.size, 0 + j, none⟩ = some (.int .i32 z) := by
  intro j z hj
  cases j with
  | zero =>
    obtain rfl : p = z := by simpa using hj
    have h : (w.alloc (.cells #[.int .i32 p] 21)).heap[w.heap.size]? = some (.cells #[.int .i32 p] 21 (0, 0)) := heap_alloc_new w _
    simp only [World.cell?, h]
    rfl
  | succ j => simp at hj
end Go.Proofs.Ytbdjncnofpbkkaa
namespace Go.Proofs.Ytbdjncnofpbkkaa
open Go Go.ChangeShapes Go.WideShapes Go.ChangeAt Go.RowKit
set_option linter.unusedSimpArgs false
set_option linter.unusedVariables false

theorem lit_string (xs : List Int) (w : World) : (convert 52 9 (.slice (some ⟨w.heap.size, 0, none⟩) xs.length xs.length)).run Try.prog (w.alloc (.cells (xs.map fun x => .int .u8 x).toArray 5)) = .ok (.string (strOfNums xs)) (w.alloc (.cells (xs.map fun x => .int .u8 x).toArray 5)) :=
  run_convert_bytes_arg _ 52 5 Try.underlying52 Try.underlying5 w.heap.size 0 xs.length xs.length xs rfl (fun i hi => by
    have h := heap_alloc_new w (.cells (xs.map fun x => .int .u8 x).toArray 5)
    simp only [World.cell?, h]
    simp [List.getD, hi]) 9 Try.underlying9
/-- A sign's bytes, as a text. -/
def signText (p : Int) : ByteArray := ⟨(Lib.encodeRune p).toArray⟩
theorem signText_nums (p : Int) : signText p = strOfNums (Lib.encodeRuneZ p) := rfl
end Go.Proofs.Ytbdjncnofpbkkaa
namespace Go.Proofs.Ytbdjncnofpbkkaa
open Go Go.ChangeShapes Go.WideShapes Go.ChangeAt Go.RowKit
set_option linter.unusedSimpArgs false
set_option linter.unusedVariables false

theorem byte_at (s : ByteArray) (k : Nat) (h : k < s.size) : s.data.toList[k]? = some s[k] := by
  have h2 : k < s.data.size := h
  rw [Array.getElem?_toList, Array.getElem?_eq_getElem h2]
  rfl
/-- Is a text made of signs? -/
def validS (s : ByteArray) : Bool := Lib.validD s.data.toList
end Go.Proofs.Ytbdjncnofpbkkaa
namespace Go.Proofs.Ytbdjncnofpbkkaa
open Go
set_option linter.unusedSimpArgs false
set_option linter.unusedVariables false

theorem u8z (x : Int) (h0 : 0 ≤ x) (h1 : x < 256) : (x.toNat.toUInt8).toNat = x.toNat := by
  rw [Nat.toUInt8_eq, UInt8.toNat_ofNat_of_lt']
  show x.toNat < 256
  omega
theorem dec1 (p : Int) (t : List UInt8) (h0 : 0 ≤ p) (h1 : p < 128) : Lib.decodeL (Lib.encodeRune p ++ t) = (p.toNat, 1) := by
  unfold Lib.encodeRune
  rw [Lib.encodeRuneZ_one h0 (by omega), Lib.decodeL_N]
  simp only [List.map_cons, List.map_nil, List.cons_append, List.nil_append, List.getD_cons_zero, List.getD_cons_succ, List.length_cons]
  rw [u8z p h0 (by omega)]
  unfold Lib.decodeN
  rw [if_pos (by omega)]
theorem dec2 (p : Int) (t : List UInt8) (h0 : 128 ≤ p) (h1 : p < 2048) : Lib.decodeL (Lib.encodeRune p ++ t) = (p.toNat, 2) := by
  unfold Lib.encodeRune
  rw [Lib.encodeRuneZ_two h0 (by omega), Lib.decodeL_N]
  simp only [List.map_cons, List.map_nil, List.cons_append, List.nil_append, List.getD_cons_zero, List.getD_cons_succ, List.length_cons]
  rw [u8z (192 + p / 64) (by omega) (by omega), u8z (128 + p % 64) (by omega) (by omega)]
  obtain ⟨n, rfl⟩ := Int.eq_ofNat_of_zero_le (show 0 ≤ p by omega)
  have e0 : (192 + (n : Int) / 64).toNat = 192 + n / 64 := by omega
  have e1 : (128 + (n : Int) % 64).toNat = 128 + n % 64 := by omega
  rw [e0, e1, Int.toNat_natCast]
  have k1 : n < 2048 := by omega
  have k0 : 128 ≤ n := by omega
  unfold Lib.decodeN
  have c1 : (192 + n / 64) / 32 = 6 := by omega
  have c2 : (128 + n % 64) / 64 = 2 := by omega
  have c3 : (192 + n / 64) % 32 * 64 + (128 + n % 64) % 64 = n := by omega
  have c0 : ¬ (192 + n / 64) < 128 := by omega
  have c4 : n ≥ 128 := by omega
  rw [if_neg c0, if_pos ⟨c1, by omega, c2⟩, c3, if_pos c4]
theorem dec3 (p : Int) (t : List UInt8) (h : (2048 ≤ p ∧ p < 55296) ∨ (57343 < p ∧ p ≤ 65535)) : Lib.decodeL (Lib.encodeRune p ++ t) = (p.toNat, 3) := by
  unfold Lib.encodeRune
  rw [Lib.encodeRuneZ_three h, Lib.decodeL_N]
  simp only [List.map_cons, List.map_nil, List.cons_append, List.nil_append, List.getD_cons_zero, List.getD_cons_succ, List.length_cons]
  rw [u8z (224 + p / 4096) (by omega) (by omega), u8z (128 + p / 64 % 64) (by omega) (by omega), u8z (128 + p % 64) (by omega) (by omega)]
  obtain ⟨n, rfl⟩ := Int.eq_ofNat_of_zero_le (show 0 ≤ p by omega)
  have e0 : (224 + (n : Int) / 4096).toNat = 224 + n / 4096 := by omega
  have e1 : (128 + (n : Int) / 64 % 64).toNat = 128 + n / 64 % 64 := by omega
  have e2 : (128 + (n : Int) % 64).toNat = 128 + n % 64 := by omega
  rw [e0, e1, e2, Int.toNat_natCast]
  have k : (2048 ≤ n ∧ n < 55296) ∨ (57343 < n ∧ n ≤ 65535) := by omega
  unfold Lib.decodeN
  have c0 : ¬ (224 + n / 4096) < 128 := by omega
  have c1 : ¬ (224 + n / 4096) / 32 = 6 := by omega
  have c2 : (224 + n / 4096) / 16 = 14 := by omega
  have c3 : (128 + n / 64 % 64) / 64 = 2 := by omega
  have c4 : (128 + n % 64) / 64 = 2 := by omega
  have c5 : (224 + n / 4096) % 16 * 4096 + (128 + n / 64 % 64) % 64 * 64 + (128 + n % 64) % 64 = n := by omega
  have c6 : n ≥ 2048 := by omega
  rw [if_neg c0, if_neg (fun h => c1 h.1), if_pos ⟨c2, ⟨by omega, c3⟩, ⟨by omega, c4⟩⟩, c5, if_pos ⟨c6, by omega⟩]
theorem dec4 (p : Int) (t : List UInt8) (h0 : 65536 ≤ p) (h1 : p ≤ 1114111) : Lib.decodeL (Lib.encodeRune p ++ t) = (p.toNat, 4) := by
  unfold Lib.encodeRune
  rw [Lib.encodeRuneZ_four h0 h1, Lib.decodeL_N]
  simp only [List.map_cons, List.map_nil, List.cons_append, List.nil_append, List.getD_cons_zero, List.getD_cons_succ, List.length_cons]
  rw [u8z (240 + p / 262144) (by omega) (by omega), u8z (128 + p / 4096 % 64) (by omega) (by omega), u8z (128 + p / 64 % 64) (by omega) (by omega), u8z (128 + p % 64) (by omega) (by omega)]
  obtain ⟨n, rfl⟩ := Int.eq_ofNat_of_zero_le (show 0 ≤ p by omega)
  have e0 : (240 + (n : Int) / 262144).toNat = 240 + n / 262144 := by omega
  have e1 : (128 + (n : Int) / 4096 % 64).toNat = 128 + n / 4096 % 64 := by omega
  have e2 : (128 + (n : Int) / 64 % 64).toNat = 128 + n / 64 % 64 := by omega
  have e3 : (128 + (n : Int) % 64).toNat = 128 + n % 64 := by omega
  rw [e0, e1, e2, e3, Int.toNat_natCast]
  have k1 : n ≤ 1114111 := by omega
  have k0 : 65536 ≤ n := by omega
  unfold Lib.decodeN
  have c0 : ¬ (240 + n / 262144) < 128 := by omega
  have c1 : ¬ (240 + n / 262144) / 32 = 6 := by omega
  have c2 : ¬ (240 + n / 262144) / 16 = 14 := by omega
  have c3 : (240 + n / 262144) / 8 = 30 := by omega
  have c4 : (128 + n / 4096 % 64) / 64 = 2 := by omega
  have c5 : (128 + n / 64 % 64) / 64 = 2 := by omega
  have c6 : (128 + n % 64) / 64 = 2 := by omega
  have c7 : (240 + n / 262144) % 8 * 262144 + (128 + n / 4096 % 64) % 64 * 4096 + (128 + n / 64 % 64) % 64 * 64 + (128 + n % 64) % 64 = n := by omega
  have c8 : n ≥ 65536 := by omega
  rw [if_neg c0, if_neg (fun h => c1 h.1), if_neg (fun h => c2 h.1), if_pos ⟨c3, ⟨by omega, c4⟩, ⟨by omega, c5⟩, ⟨by omega, c6⟩⟩, c7, if_pos ⟨c8, by omega⟩]
theorem dec_enc (p : Int) (h : isSign p = true) (t : List UInt8) : Lib.decodeL (Lib.encodeRune p ++ t) = (p.toNat, (Lib.encodeRune p).length) := by
  have hp := (isSign_iff p).1 h
  have hl : (Lib.encodeRune p).length = (Lib.encodeRuneZ p).length := List.length_map _
  rw [hl]
  by_cases h1 : p < 128
  · rw [dec1 p t (by omega) h1, Lib.encodeRuneZ_one (by omega) (by omega)]; rfl
  by_cases h2 : p < 2048
  · rw [dec2 p t (by omega) h2, Lib.encodeRuneZ_two (by omega) (by omega)]; rfl
  by_cases h3 : p < 65536
  · rw [dec3 p t (by omega), Lib.encodeRuneZ_three (by omega)]; rfl
  · rw [dec4 p t (by omega) (by omega), Lib.encodeRuneZ_four (by omega) (by omega)]; rfl
theorem enc_good (p : Int) (h : isSign p = true) : ¬ (p.toNat = 65533 ∧ (Lib.encodeRune p).length = 1) := by
  rintro ⟨h1, h2⟩
  have hp := (isSign_iff p).1 h
  have hl : (Lib.encodeRune p).length = (Lib.encodeRuneZ p).length := List.length_map _
  rw [hl, Lib.encodeRuneZ_three (by omega)] at h2
  simp at h2
theorem enc_ne (p : Int) (t : List UInt8) : Lib.encodeRune p ++ t ≠ [] := by
  intro e
  have h := congrArg List.length e
  have h2 := (Lib.runeCells_le p).1
  rw [Lib.runeCells_length] at h2
  rw [List.length_append, List.length_nil] at h
  omega
theorem badL_enc (a : Nat) (p : Int) (h : isSign p = true) (t : List UInt8) : badL a (Lib.encodeRune p ++ t) = badL (a + (Lib.encodeRune p).length) t := by
  rw [badL_step a _ (enc_ne p t), dec_enc p h t, if_neg (enc_good p h)]
  simp only
  rw [List.drop_left]
theorem badL_encs : ∀ (l : List Int) (a : Nat) (t : List UInt8), allSigns l = true → badL a (encs l ++ t) = badL (a + (encs l).length) t
  | [], a, t, _ => by simp [encs]
  | p :: l, a, t, h => by
    unfold allSigns at h
    rw [List.all_cons, Bool.and_eq_true] at h
    rw [encs_cons, List.append_assoc, badL_enc a p h.1, badL_encs l _ t h.2, List.length_append, Nat.add_assoc]
theorem badL_shift : ∀ (n : Nat) (a : Nat) (l : List UInt8), l.length ≤ n → badL a l = if badL 0 l < 0 then -1 else a + badL 0 l
  | n, a, [], _ => by rw [badL_nil, badL_nil, if_pos (by decide)]
  | 0, a, x :: l, h => by simp at h
  | n + 1, a, x :: l, h => by
    have hne : x :: l ≠ [] := by simp
    have hw := Lib.decodeL_width (x :: l)
    rw [badL_step a _ hne, badL_step 0 _ hne]
    by_cases hb : (Lib.decodeL (x :: l)).1 = 65533 ∧ (Lib.decodeL (x :: l)).2 = 1
    · rw [if_pos hb, if_pos hb]; simp
    · rw [if_neg hb, if_neg hb]
      have hd : ((x :: l).drop (Lib.decodeL (x :: l)).2).length ≤ n := by rw [List.length_drop]; omega
      rw [badL_shift n _ _ hd, badL_shift n (0 + _) _ hd]
      generalize badL 0 (List.drop (Lib.decodeL (x :: l)).2 (x :: l)) = q
      generalize (Lib.decodeL (x :: l)).2 = k
      by_cases hq : q < 0
      · simp [hq]
      · have h2 : ¬ (((0 + k : Nat) : Int) + q < 0) := by omega
        rw [if_neg hq, if_neg hq, if_neg h2]
        omega
end Go.Proofs.Ytbdjncnofpbkkaa
namespace Go.Proofs.Ytbdjncnofpbkkaa
open Go Go.ChangeShapes Go.WideShapes Go.ChangeAt Go.RowKit
set_option linter.unusedSimpArgs false
set_option linter.unusedVariables false
set_option maxRecDepth 100000

theorem own : ownKnob Try.prog.godebug = none := by kernel_rfl
theorem laidOut : laidOutB Try.prog = true := by kernel_rfl
end Go.Proofs.Ytbdjncnofpbkkaa
namespace Go.Proofs.Ytbdjncnofpbkkaa
open Go Go.ChangeShapes Go.WideShapes Go.ChangeAt Go.RowKit
set_option linter.unusedSimpArgs false
set_option linter.unusedVariables false

/-- What a list of numbers is: none, or in memory. -/
def IsRow (w : World) (a : Option Addr) (len cap : Nat) (zs : List Int) : Prop :=
  zs.length = len ∧ (len = 0 ∨ ∃ (x off : Nat), a = some ⟨x, off, none⟩ ∧ len ≤ cap ∧ ∀ (j : Nat) z, zs[j]? = some z → w.cell? ⟨x, off + j, none⟩ = some (.int .i32 z))
theorem isRow_of {w : World} {x : Addr} {zs : List Int} {len cap : Nat} (hl : len ≤ cap) (hz : zs.length = cap) (hc : ∀ i, i < zs.length → w.cell? (x.add i) = some (.int .i32 (zs.getD i 0))) : IsRow w (some x) len cap (zs.take len) := by
  refine ⟨by simp; omega, ?_⟩
  by_cases h0 : len = 0
  · exact .inl h0
  · obtain ⟨b, off, spot⟩ := x
    have e0 := hc 0 (by omega)
    have hspot : spot = none := by simpa [Addr.add] using World.cell?_spot e0
    subst hspot
    refine .inr ⟨b, off, rfl, hl, fun j y hj => ?_⟩
    have hjl : j < len := by
      rcases Nat.lt_or_ge j len with h | h
      · exact h
      · rw [List.getElem?_eq_none (by simp; omega)] at hj
        cases hj
    have h1 := hc j (by omega)
    rw [Go.WideShapes.add_plain] at h1
    rw [h1]
    rw [List.getElem?_take, if_pos hjl] at hj
    simp [List.getD, hj]
theorem text_size {zs : List Int} (h : allSigns zs = true) : (textOut zs).size ≤ 4 * zs.length := by
  rw [textOut_yes h]
  exact encs_le zs
theorem text_list {zs : List Int} (h : allSigns zs = true) : (textOut zs).data.toList = encs zs := by
  rw [textOut_yes h]
theorem append_list (t s : ByteArray) : (t ++ s).data.toList = t.data.toList ++ s.data.toList := by
  rw [ByteArray.data_append, Array.toList_append]
theorem badL_le : ∀ (n a : Nat) (l : List UInt8), l.length ≤ n → badL a l < a + l.length
  | n, a, [], _ => by rw [badL_nil]; simp; omega
  | 0, a, x :: l, h => by simp at h
  | n + 1, a, x :: l, h => by
    have hne : x :: l ≠ [] := by simp
    have hw := Lib.decodeL_width (x :: l)
    have hq := Lib.decodeL_le (x :: l) hne
    rw [badL_step a _ hne]
    by_cases hb : (Lib.decodeL (x :: l)).1 = 65533 ∧ (Lib.decodeL (x :: l)).2 = 1
    · rw [if_pos hb]; simp; omega
    · rw [if_neg hb]
      have hd : ((x :: l).drop (Lib.decodeL (x :: l)).2).length = (x :: l).length - (Lib.decodeL (x :: l)).2 := List.length_drop
      have h3 := badL_le n (a + (Lib.decodeL (x :: l)).2) ((x :: l).drop (Lib.decodeL (x :: l)).2) (by omega)
      omega
/-- The first place without a sign, of a text. -/
def badS (s : ByteArray) : Int := badL 0 s.data.toList
theorem badS_lt (s : ByteArray) : badS s < s.size := by
  have := badL_le _ 0 s.data.toList (Nat.le_refl _)
  unfold badS
  simpa using this
theorem badS_append {zs : List Int} (h : allSigns zs = true) (s : ByteArray) : badS (textOut zs ++ s) = if badS s < 0 then -1 else (textOut zs).size + badS s := by
  unfold badS
  have e : (textOut zs).size = (encs zs).length := by rw [textOut_yes h]; rfl
  rw [append_list, text_list h, badL_encs zs 0 _ h, badL_shift _ _ _ (Nat.le_refl _), e]
  simp
end Go.Proofs.Ytbdjncnofpbkkaa
namespace Go.Proofs.Ytbdjncnofpbkkaa
open Go
set_option linter.unusedSimpArgs false
set_option linter.unusedVariables false

/-- The signs of some bytes, by the decoder. -/
def runesGo : Nat → List UInt8 → List Int
  | 0, _ => []
  | n + 1, l => if l = [] then [] else ((Lib.decodeL l).1 : Int) :: runesGo n (l.drop (Lib.decodeL l).2)
def runesL (l : List UInt8) : List Int := runesGo l.length l
theorem runesGo_nil : ∀ n, runesGo n [] = []
  | 0 => rfl
  | _ + 1 => by rw [runesGo, if_pos rfl]
theorem runesGo_fuel : ∀ (n m : Nat) (l : List UInt8), l.length ≤ n → l.length ≤ m → runesGo n l = runesGo m l
  | 0, m, l, h, _ => by
    have e : l = [] := List.eq_nil_of_length_eq_zero (by omega)
    subst e
    rw [runesGo_nil, runesGo_nil]
  | n + 1, 0, l, _, h => by
    have e : l = [] := List.eq_nil_of_length_eq_zero (by omega)
    subst e
    rw [runesGo_nil, runesGo_nil]
  | n + 1, m + 1, l, h, h2 => by
    rw [runesGo, runesGo]
    by_cases e : l = []
    · rw [if_pos e, if_pos e]
    · rw [if_neg e, if_neg e]
      have h1 := Lib.decodeL_width l
      have h3 : 0 < l.length := List.length_pos_iff.2 e
      rw [runesGo_fuel n m (l.drop _) (by rw [List.length_drop]; omega) (by rw [List.length_drop]; omega)]
theorem runesL_nil : runesL [] = [] := rfl
theorem runesL_step (l : List UInt8) (h : l ≠ []) : runesL l = ((Lib.decodeL l).1 : Int) :: runesL (l.drop (Lib.decodeL l).2) := by
  have h1 := Lib.decodeL_width l
  have h3 : 0 < l.length := List.length_pos_iff.2 h
  unfold runesL
  obtain ⟨n, hn⟩ : ∃ n, l.length = n + 1 := ⟨l.length - 1, by omega⟩
  rw [hn, runesGo, if_neg h, runesGo_fuel n (l.drop _).length _ (by rw [List.length_drop]; omega) (Nat.le_refl _)]
theorem runesL_enc (p : Int) (h : isSign p = true) (t : List UInt8) : runesL (Lib.encodeRune p ++ t) = p :: runesL t := by
  have hp := (isSign_iff p).1 h
  rw [runesL_step _ (enc_ne p t), dec_enc p h t]
  simp only
  rw [List.drop_left, Int.toNat_of_nonneg (by omega)]
theorem runesL_encs : ∀ (l : List Int), allSigns l = true → runesL (encs l) = l
  | [], _ => rfl
  | p :: l, h => by
    unfold allSigns at h
    rw [List.all_cons, Bool.and_eq_true] at h
    rw [encs_cons, runesL_enc p h.1, runesL_encs l h.2]
theorem dec_sign (l : List UInt8) : isSign ((Lib.decodeL l).1 : Int) = true := by
  have h0 := (l.getD 0 0).toNat_lt
  rw [isSign_iff, Lib.decodeL_N]
  unfold Lib.decodeN
  split
  · simp only; omega
  · split
    · split
      · simp only; omega
      · simp only; omega
    · split
      · split
        · simp only; omega
        · simp only; omega
      · split
        · split
          · simp only; omega
          · simp only; omega
        · simp only; omega
theorem runesL_signs : ∀ (n : Nat) (l : List UInt8), l.length ≤ n → allSigns (runesL l) = true
  | _, [], _ => rfl
  | 0, x :: l, h => by simp at h
  | n + 1, x :: l, h => by
    have hne : x :: l ≠ [] := by simp
    have hw := Lib.decodeL_width (x :: l)
    rw [runesL_step _ hne]
    unfold allSigns
    rw [List.all_cons, dec_sign]
    exact runesL_signs n _ (by rw [List.length_drop]; omega)
theorem runesL_back : ∀ (n a : Nat) (l : List UInt8), l.length ≤ n → badL a l < 0 → encs (runesL l) = l
  | _, _, [], _, _ => rfl
  | 0, _, x :: l, h, _ => by simp at h
  | n + 1, a, x :: l, h, hb => by
    have hne : x :: l ≠ [] := by simp
    have hw := Lib.decodeL_width (x :: l)
    rw [badL_step a _ hne] at hb
    by_cases hx : (Lib.decodeL (x :: l)).1 = 65533 ∧ (Lib.decodeL (x :: l)).2 = 1
    · rw [if_pos hx] at hb; omega
    · rw [if_neg hx] at hb
      rw [runesL_step _ hne, encs_cons, Lib.encode_decode _ hne hx, runesL_back n _ _ (by rw [List.length_drop]; omega) hb, List.take_append_drop]
theorem valid_bad : ∀ (n a : Nat) (l : List UInt8), l.length ≤ n → Lib.validD l = decide (badL a l < 0)
  | _, _, [], _ => rfl
  | 0, _, x :: l, h => by simp at h
  | n + 1, a, x :: l, h => by
    have hne : x :: l ≠ [] := by simp
    have hw := Lib.decodeL_width (x :: l)
    rw [badL_step a _ hne, Lib.validD_step _ hne]
    by_cases hx : (Lib.decodeL (x :: l)).1 = 65533 ∧ (Lib.decodeL (x :: l)).2 = 1
    · rw [if_pos hx, if_pos hx]
      exact (decide_eq_false (by omega)).symm
    · rw [if_neg hx, if_neg hx]
      exact valid_bad n _ _ (by rw [List.length_drop]; omega)
theorem validS_eq (s : ByteArray) : validS s = decide (badS s < 0) := valid_bad _ 0 _ (Nat.le_refl _)
theorem count_from (s : ByteArray) : ∀ (f pos : Nat), s.size ≤ pos + f → Lib.runeCountFrom s f pos = (runesL (s.data.toList.drop pos)).length
  | f, pos, h => by
    have hsz : s.data.toList.length = s.size := rfl
    by_cases hp : pos < s.size
    · cases f with
      | zero => omega
      | succ f =>
        have hne : s.data.toList.drop pos ≠ [] := by
          intro e
          have h1 := congrArg List.length e
          rw [List.length_drop, hsz, List.length_nil] at h1
          omega
        have hw := Lib.decodeL_width (s.data.toList.drop pos)
        rw [runesL_step _ hne, List.length_cons, List.drop_drop, Lib.decodeL_drop]
        rw [Lib.decodeL_drop] at hw
        rw [← count_from s f (pos + (Utf8.decode s pos).2) (by omega)]
        simp only [Lib.runeCountFrom, hp, if_true]
        omega
    · rw [Lib.runeCountFrom_end s f pos hp, List.drop_eq_nil_of_le (by omega)]
      rfl
theorem runeCount_eq (s : ByteArray) : Lib.runeCount s = (runesL s.data.toList).length := by
  unfold Lib.runeCount
  rw [count_from s s.size 0 (by omega), List.drop_zero]
end Go.Proofs.Ytbdjncnofpbkkaa
namespace Go.Proofs.Ytbdjncnofpbkkaa
open Go Go.ChangeShapes Go.WideShapes Go.ChangeAt Go.RowKit
set_option linter.unusedSimpArgs false
set_option linter.unusedVariables false

/-- Numbers as cells. -/
def runeCellsOf (l : List Int) : List Value := l.map fun z => .int .i32 z
theorem info_i32 : (Try.prog.info? 21).map (fun i => (i.zero, i.size, i.bytes)) = some (some (.int .i32 0), 1, 4) := by kernel_rfl
theorem own_row {w : World} {B : Nat} {v : Value} {n : Nat} {zs : List Int} (h : w.ownsRow B 21 1 v n (runeCellsOf zs)) : ∃ a cap, v = .slice a n cap ∧ IsRow w a n cap zs := by
  obtain ⟨hl, ⟨rfl, rfl⟩ | ⟨g, cap, cur, rfl, hg, hh, hn, hm, hs, ht⟩⟩ := h
  · exact ⟨none, 0, rfl, by simpa [runeCellsOf] using hl, .inl rfl⟩
  · have hbl : zs.length = n := by simpa [runeCellsOf] using hl
    refine ⟨some ⟨g, 0, none⟩, cap, rfl, hbl, .inr ⟨g, 0, rfl, hn, fun j z hj => ?_⟩⟩
    have hjl : j < zs.length := (List.getElem?_eq_some_iff.1 hj).1
    have e1 : (runeCellsOf zs)[j]? = some (.int .i32 z) := by simp [runeCellsOf, hj]
    rw [← ht, List.getElem?_take, if_pos (by omega)] at e1
    have e2 : w.cell? ⟨g, 0 + j, none⟩ = cur.toList[j]? := by simp [World.cell?, hh]
    rw [e2, e1]
theorem own_iterAt {w : World} {B e size n : Nat} {v : Value} {xs : List Value} {k : Nat} {s : ByteArray} {pos : Nat} (h : w.ownsRow B e size v n xs) (hk : w.heap[k]? = some (.stringIter s pos)) (pos' : Nat) : (w.iterAt k s pos').ownsRow B e size v n xs := by
  obtain ⟨h1, h2⟩ := h
  refine ⟨h1, ?_⟩
  rcases h2 with h2 | ⟨g, cap, cur, a, b, c, d⟩
  · exact .inl h2
  · have hne : g ≠ k := by
      rintro rfl
      rw [hk] at c
      cases c
    exact .inr ⟨g, cap, cur, a, b, by rw [Lib.iterAt_other _ _ _ _ _ hne]; exact c, d⟩
theorem own_ne_iter {w : World} {B e size n : Nat} {v : Value} {xs : List Value} {k : Nat} {s : ByteArray} {pos : Nat} (h : w.ownsRow B e size v n xs) (hk : w.heap[k]? = some (.stringIter s pos)) : some k ≠ v.ownBlock := by
  obtain ⟨h1, h2⟩ := h
  rcases h2 with ⟨rfl, _⟩ | ⟨g, cap, cur, rfl, b, c, d⟩
  · simp [Value.ownBlock]
  · intro e
    obtain rfl : k = g := by simpa [Value.ownBlock] using e
    rw [hk] at c
    cases c
theorem info_parts_i32 : ∃ i, Try.prog.info? 21 = some i ∧ i.zero = some (.int .i32 0) ∧ i.size = 1 ∧ i.bytes = 4 := by
  obtain ⟨i, hi, h2⟩ := Option.map_eq_some_iff.1 info_i32
  obtain ⟨h3, h4⟩ := Prod.mk.inj h2
  obtain ⟨h5, h6⟩ := Prod.mk.inj h4
  exact ⟨i, hi, h3, h5, h6⟩
theorem cell_one_new (w : World) (a : Value) (t : TypeId) : ∀ j u, [a][j]? = some u → (w.alloc (.cells #[a] t)).cell? ((⟨w.heap.size, 0, none⟩ : Addr).add j) = some u := by
  intro j u hj
  match j, hj with
  | 0, hj => simp at hj; subst hj; simp [Addr.add]
  | j + 1, hj => simp at hj
theorem decode_pos (s : ByteArray) (pos : Nat) : 1 ≤ (Utf8.decode s pos).2 := by
  rw [← Lib.decodeL_drop]
  exact Lib.decodeL_width _
theorem drop_ne {s : ByteArray} {a : Nat} (h : a < s.size) : s.data.toList.drop a ≠ [] := by
  intro e
  have h1 := congrArg List.length e
  rw [List.length_drop] at h1
  have e2 : s.data.toList.length = s.size := rfl
  rw [e2, List.length_nil] at h1
  omega
theorem decode_end (s : ByteArray) (pos : Nat) (h : pos < s.size) : pos + (Utf8.decode s pos).2 ≤ s.size := by
  have h1 := Lib.decodeL_le _ (drop_ne h)
  rw [Lib.decodeL_drop, List.length_drop] at h1
  have e2 : s.data.toList.length = s.size := rfl
  omega
theorem runes_at (s : ByteArray) (pos : Nat) (h : pos < s.size) : runesL (s.data.toList.drop pos) = ((Utf8.decode s pos).1 : Int) :: runesL (s.data.toList.drop (pos + (Utf8.decode s pos).2)) := by
  rw [runesL_step _ (drop_ne h), Lib.decodeL_drop, List.drop_drop]

end Go.Proofs.Ytbdjncnofpbkkaa
namespace Go.Proofs.Ytbdjncnofpbkkaa
open Go Go.ChangeShapes Go.WideShapes Go.ChangeAt Go.RowKit
set_option linter.unusedSimpArgs false
set_option linter.unusedVariables false

theorem IsRow.ext {w w' : World} {a : Option Addr} {len cap : Nat} {zs : List Int} (h : IsRow w a len cap zs) (k : Ext w w') : IsRow w' a len cap zs := by
  obtain ⟨h1, h2⟩ := h
  refine ⟨h1, ?_⟩
  rcases h2 with h2 | ⟨x, off, rfl, hc, hcell⟩
  · exact .inl h2
  · exact .inr ⟨x, off, rfl, hc, fun j z hj => (World.cell?_of_block (k.block x (World.block_lt_of_cell? w _ (hcell j z hj)))).trans (hcell j z hj)⟩
/-- The text of signs. -/
def txt (zs : List Int) : ByteArray := ⟨(encs zs).toArray⟩
theorem txt_append (a : List Int) (p : Int) : txt a ++ signText p = txt (a ++ [p]) := by
  have h : (txt a ++ signText p).data = (txt (a ++ [p])).data := by
    rw [ByteArray.data_append]
    unfold txt signText
    rw [encs_app, encs_one]
    simp
  exact ByteArray.ext h
theorem txt_size (a : List Int) : (txt a).size ≤ 4 * a.length := encs_le a
theorem sign_size (p : Int) : (signText p).size ≤ 4 := enc_le p
end Go.Proofs.Ytbdjncnofpbkkaa
