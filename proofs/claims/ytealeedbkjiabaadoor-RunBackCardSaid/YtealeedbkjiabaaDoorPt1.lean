/-
  Contracts of package point (1): what the worlds' relations are; which numbers are signs'; a fault; signs as a text.
-/
import Derived.Test.YtealeedbkjiabaaDoorBase
import Derived.WalkKit
import Derived.ProofKit
import Derived.OpenShut
import Derived.ShutString
import Derived.Below
import Derived.Outline
import Derived.Lib.Hide
import Derived.WalkLawsBesides
import Derived.WalkSpells
import Derived.BigQuiet
import Derived.Deep.QuietTactic
import Derived.Laws.BytesArg
import Derived.Laws.MakeOwn
import Derived.Laws.StructEq
import Derived.Lib.RuneBytes
namespace Go.Proofs.YtealeedbkjiabaaDoor
open Go Go.ChangeShapes Go.WideShapes Go.ChangeAt Go.RowKit
set_option linter.unusedSimpArgs false
set_option linter.unusedVariables false

/-- Is it a sign's number? -/
def isSign (p : Int) : Bool := decide (0 ≤ p ∧ p < 55296) || decide (57343 < p ∧ p ≤ 1114111)
theorem isSign_iff (p : Int) : isSign p = true ↔ (0 ≤ p ∧ p < 55296) ∨ (57343 < p ∧ p ≤ 1114111) := by simp [isSign]
theorem isSign_no (p : Int) : isSign p = false ↔ ¬ ((0 ≤ p ∧ p < 55296) ∨ (57343 < p ∧ p ≤ 1114111)) := by rw [← isSign_iff]; simp

theorem scalar_any (p : Int) (w : World) : Calls Tryd.prog 76 #[.int .i32 p] w fun e w' => e = .returned (.bool (isSign p)) ∧ w = w' := by
  by_cases h0 : 0 ≤ p
  · by_cases h1 : p < 55296
    · have e : isSign p = true := (isSign_iff p).2 (.inl ⟨h0, h1⟩)
      rw [e]
      go_enter Tryd.func76, Tryd.ntmps76
      go_wp2
      go_ret
      exact ⟨by first | rfl | simp_all, rfl⟩
    · by_cases h2 : 57343 < p
      · by_cases h3 : p ≤ 1114111
        · have e : isSign p = true := (isSign_iff p).2 (.inr ⟨h2, h3⟩)
          rw [e]
          go_enter Tryd.func76, Tryd.ntmps76
          go_wp2
          go_ret
          exact ⟨by first | rfl | simp_all, rfl⟩
        · have e : isSign p = false := (isSign_no p).2 (by omega)
          rw [e]
          go_enter Tryd.func76, Tryd.ntmps76
          go_wp2
          go_ret
          exact ⟨by first | rfl | simp_all, rfl⟩
      · have e : isSign p = false := (isSign_no p).2 (by omega)
        rw [e]
        go_enter Tryd.func76, Tryd.ntmps76
        go_wp2
        go_ret
        exact ⟨by first | rfl | simp_all, rfl⟩
  · have e : isSign p = false := (isSign_no p).2 (by omega)
    have h2 : ¬ 57343 < p := by omega
    rw [e]
    go_enter Tryd.func76, Tryd.ntmps76
    go_wp2
    go_ret
    exact ⟨by first | rfl | simp_all, rfl⟩
theorem rscalar_any (p : Int) (w : World) : Calls Tryd.prog 69 #[.int .i32 p] w fun e w' => e = .returned (.bool (isSign p)) ∧ w = w' := by
  by_cases h0 : 0 ≤ p
  · by_cases h3 : p ≤ 1114111
    · by_cases h1 : p < 55296
      · have e : isSign p = true := (isSign_iff p).2 (.inl ⟨h0, h1⟩)
        rw [e]
        go_enter Tryd.func69, Tryd.ntmps69
        go_wp2
        go_ret
        exact ⟨by first | rfl | simp_all, rfl⟩
      · by_cases h2 : 57343 < p
        · have e : isSign p = true := (isSign_iff p).2 (.inr ⟨h2, h3⟩)
          rw [e]
          go_enter Tryd.func69, Tryd.ntmps69
          go_wp2
          go_ret
          exact ⟨by first | rfl | simp_all, rfl⟩
        · have e : isSign p = false := (isSign_no p).2 (by omega)
          rw [e]
          go_enter Tryd.func69, Tryd.ntmps69
          go_wp2
          go_ret
          exact ⟨by first | rfl | simp_all, rfl⟩
    · have e : isSign p = false := (isSign_no p).2 (by omega)
      rw [e]
      go_enter Tryd.func69, Tryd.ntmps69
      go_wp2
      go_ret
      exact ⟨by first | rfl | simp_all, rfl⟩
  · have e : isSign p = false := (isSign_no p).2 (by omega)
    rw [e]
    go_enter Tryd.func69, Tryd.ntmps69
    go_wp2
    go_ret
    exact ⟨by first | rfl | simp_all, rfl⟩
theorem bad_yes (er pl : Int) (w : World) (h : (er != 0) = true) : Calls Tryd.prog 17 #[.agg #[.int .i64 er, .int .i64 pl]] w fun e w' => e = .returned (.bool true) ∧ Ext w w' := by
  go_enter Tryd.func17, Tryd.ntmps17
  go_wp2
  go_ret
  exact ⟨by simp_all, (by repeat (first | exact Ext.refl _ | apply Ext.drew | refine Ext.alloc ?_ _))⟩
theorem bad_no (er pl : Int) (w : World) (h : (er != 0) = false) : Calls Tryd.prog 17 #[.agg #[.int .i64 er, .int .i64 pl]] w fun e w' => e = .returned (.bool false) ∧ Ext w w' := by
  go_enter Tryd.func17, Tryd.ntmps17
  go_wp2
  go_ret
  exact ⟨by simp_all, (by repeat (first | exact Ext.refl _ | apply Ext.drew | refine Ext.alloc ?_ _))⟩

/-! ### Signs as a text -/
/-- Signs' bytes, one sign behind the other. -/
def encs (l : List Int) : List UInt8 := l.flatMap Lib.encodeRune
theorem encs_nil : encs [] = [] := rfl
theorem encs_one (p : Int) : encs [p] = Lib.encodeRune p := by simp [encs]
theorem encs_app (a b : List Int) : encs (a ++ b) = encs a ++ encs b := by simp [encs]
theorem encs_cons (p : Int) (l : List Int) : encs (p :: l) = Lib.encodeRune p ++ encs l := by simp [encs]
theorem enc_le (p : Int) : (Lib.encodeRune p).length ≤ 4 := by
  have := (Lib.runeCells_le p).2
  rwa [Lib.runeCells_length] at this
theorem encs_le : ∀ l : List Int, (encs l).length ≤ 4 * l.length
  | [] => by simp [encs]
  | p :: l => by
    have h := encs_le l
    have h2 := enc_le p
    rw [encs_cons, List.length_append, List.length_cons]
    omega
theorem info_u8 : (Tryd.prog.info? 5).map (fun i => (i.zero, i.size, i.bytes)) = some (some (.int .u8 0), 1, 1) := by kernel_rfl
theorem make_row (k : Nat) (hk : k ≤ 281474976710656) (w : World) : ∃ w', (Instr.makeSlice 98 (.int .i64 0) (.int .i64 (k : Int))).run Tryd.prog w = .ok (.slice (some ⟨w.heap.size, 0, none⟩) 0 k) w' ∧
    w'.ownsRow w.heap.size 5 1 (.slice (some ⟨w.heap.size, 0, none⟩) 0 k) 0 [] ∧ w.grownBy w' none := by
  obtain ⟨i, hi, h2⟩ := Option.map_eq_some_iff.1 info_u8
  obtain ⟨h3, h4⟩ := Prod.mk.inj h2
  obtain ⟨h5, h6⟩ := Prod.mk.inj h4
  exact run_make_own (P := Tryd.prog) (w := w) w.heap.size 98 5 i (.int .u8 0) 1 Tryd.underlying98 hi h3 h5 .i64 .i64 k (by rw [h6]; omega) (by simp [maxLen]; omega) (Nat.le_refl _)
theorem nums_bytes (bs : List UInt8) : strOfNums (bs.map fun b => (b.toNat : Int)) = ⟨bs.toArray⟩ := by
  unfold strOfNums
  congr 2
  rw [List.map_map]
  conv => rhs; rw [← List.map_id bs]
  apply List.map_congr_left
  intro x _
  simp
theorem own_string {w : World} {B : Nat} {v : Value} {n : Nat} {bs : List UInt8} (h : w.ownsRow B 5 1 v n (Lib.byteCells bs)) : (convert 98 9 v).run Tryd.prog w = .ok (.string ⟨bs.toArray⟩) w := by
  obtain ⟨hl, ⟨rfl, rfl⟩ | ⟨g, cap, cur, rfl, hg, hh, hn, hm, hs, ht⟩⟩ := h
  · have e : bs = [] := by simpa [Lib.byteCells] using hl
    subst e
    exact run_convert_bytes_nil w 98 5 Tryd.underlying98 Tryd.underlying5 0 0 9 Tryd.underlying9
  · have hbl : bs.length = n := by simpa [Lib.byteCells] using hl
    have hr := run_convert_bytes_arg w 98 5 Tryd.underlying98 Tryd.underlying5 g 0 n cap (bs.map fun b => (b.toNat : Int)) (by simpa using hbl) (fun i hi => by
      have hi2 : i < bs.length := by omega
      have e1 : (Lib.byteCells bs)[i]? = some (.int .u8 (bs[i].toNat : Int)) := by simp [Lib.byteCells, hi2]
      rw [← ht, List.getElem?_take, if_pos (by omega)] at e1
      have e2 : w.cell? ⟨g, 0 + i, none⟩ = cur.toList[i]? := by simp [World.cell?, hh]
      rw [e2, e1]
      simp [List.getD, hi2]) 9 Tryd.underlying9
    rw [hr, nums_bytes]
end Go.Proofs.YtealeedbkjiabaaDoor
