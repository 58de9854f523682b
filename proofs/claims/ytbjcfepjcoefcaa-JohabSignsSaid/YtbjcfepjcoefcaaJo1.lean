/-
  The document's answers of layer 6: the parts' numbers, the consonants that stand alone, the sign of a code, the code of a sign.
-/
import Derived.Test.YtbjcfepjcoefcaaBase
import Derived.IntWalk
namespace Go.Proofs.Ytbjcfepjcoefcaa
open Go Go.ChangeShapes Go.WideShapes Go.ChangeAt Go.RowKit
set_option linter.unusedSimpArgs false
set_option linter.unusedVariables false

theorem arr_cell (w : World) (l : List Int) (t : TypeId) (c : Nat) (h : c < l.length) : (w.alloc (.cells (l.map fun x => Value.int .i64 x).toArray t)).cell? ⟨w.heap.size, c, none⟩ = some (.int .i64 (l.getD c 0)) := by
  have h1 := heap_alloc_new w (.cells (l.map fun x => Value.int .i64 x).toArray t)
  simp only [World.cell?, h1]
  simp [List.getD, h]
def medL : List Int := [-2, -2, -1, 0, 1, 2, 3, 4, -2, -2, 5, 6, 7, 8, 9, 10, -2, -2, 11, 12, 13, 14, 15, 16, -2, -2, 17, 18, 19, 20, -2, -2]
def aloneL : List Int := [0, 1, 103, 2, 105, 106, 3, 4, 5, 109, 110, 111, 112, 113, 114, 115, 6, 7, 8, 118, 9, 10, 11, 12, 13, 14, 15, 16, 17, 18]
/-- The number of a medial's code; -1: none; -2: it isn't there. -/
def medZ (c : Nat) : Int := medL.getD c 0
/-- The number of a final's code; -2: it isn't there. -/
def finZ (c : Nat) : Int := if c = 0 ∨ c = 18 ∨ 29 < c then -2 else if c < 18 then (c : Int) - 1 else (c : Int) - 2
theorem medZ_bd : ∀ c : Fin 32, -2 ≤ medZ c.val ∧ medZ c.val ≤ 20 := by decide +kernel
theorem finZ_bd : ∀ c : Fin 32, (finZ c.val = -2 ∨ 0 ≤ finZ c.val) ∧ finZ c.val ≤ 27 := by decide +kernel
set_option maxRecDepth 100000 in
set_option maxHeartbeats 1000000 in
theorem rmedial (c : Nat) (w : World) (h : c < 32) : Calls Try.prog 15 #[.int .i64 c] w fun e w' => e = .returned (.int .i64 (medZ c)) ∧ Ext w w' := by
  have hc : (w.alloc (.cells #[.int .i64 (-2), .int .i64 (-2), .int .i64 (-1), .int .i64 0, .int .i64 1, .int .i64 2, .int .i64 3, .int .i64 4, .int .i64 (-2), .int .i64 (-2), .int .i64 5, .int .i64 6, .int .i64 7, .int .i64 8, .int .i64 9, .int .i64 10, .int .i64 (-2), .int .i64 (-2), .int .i64 11, .int .i64 12, .int .i64 13, .int .i64 14, .int .i64 15, .int .i64 16, .int .i64 (-2), .int .i64 (-2), .int .i64 17, .int .i64 18, .int .i64 19, .int .i64 20, .int .i64 (-2), .int .i64 (-2)] 3)).cell? ⟨w.heap.size, c, none⟩ = some (.int .i64 (medZ c)) := arr_cell w medL 3 c h
  have h0 : (0 : Int) ≤ c := by omega
  have h1 : (c : Int) < 32 := by omega
  generalize medZ c = v at hc
  go_enter Try.func15, Try.ntmps15
  go_wp2
  go_ret
  exact ⟨rfl, (Ext.refl w).alloc _⟩
theorem rfinal (c : Nat) (w : World) (h : c < 32) : Calls Try.prog 16 #[.int .i64 c] w fun e w' => e = .returned (.int .i64 (finZ c)) ∧ Ext w w' := by
  by_cases h0 : c = 0
  · subst h0
    go_enter Try.func16, Try.ntmps16
    go_wp2
    go_ret
    exact ⟨rfl, Ext.refl _⟩
  by_cases h1 : c = 18
  · subst h1
    go_enter Try.func16, Try.ntmps16
    go_wp2
    go_ret
    exact ⟨rfl, Ext.refl _⟩
  by_cases h2 : 29 < c
  · have e : finZ c = -2 := if_pos (.inr (.inr h2))
    rw [e]
    have e1 : (29 : Int) < c := by omega
    have e2 : ((c : Int) == 0) = false := beq_false_of_ne (by omega)
    have e3 : ((c : Int) == 18) = false := beq_false_of_ne (by omega)
    go_enter Try.func16, Try.ntmps16
    go_wp2
    go_ret
    exact ⟨rfl, Ext.refl _⟩
  have hn : ¬ (c = 0 ∨ c = 18 ∨ 29 < c) := by omega
  obtain ⟨n, hcn⟩ : ∃ n : Int, n = c := ⟨_, rfl⟩
  have e1 : ¬ (29 : Int) < n := by omega
  have e2 : (n == 0) = false := beq_false_of_ne (by omega)
  have e3 : (n == 18) = false := beq_false_of_ne (by omega)
  have e4 : ¬ n = 0 := by omega
  have e5 : ¬ n = 18 := by omega
  have e6 : 0 ≤ n := by omega
  by_cases h3 : c < 18
  · have e : finZ c = n - 1 := by unfold finZ; rw [if_neg hn, if_pos h3]; omega
    rw [e, ← hcn]
    have e7 : n < 18 := by omega
    clear e hcn
    go_enter Try.func16, Try.ntmps16
    go_wp2
    go_ret
    exact ⟨rfl, Ext.refl _⟩
  · have e : finZ c = n - 2 := by unfold finZ; rw [if_neg hn, if_neg h3]; omega
    rw [e, ← hcn]
    have e7 : ¬ n < 18 := by omega
    have e8 : n ≤ 29 := by omega
    clear e hcn
    go_enter Try.func16, Try.ntmps16
    go_wp2
    go_ret
    exact ⟨rfl, Ext.refl _⟩
/-- The consonant of a part; 0: there is none. -/
def aloneGo (part : Int) : Nat → List Int → Int
  | _, [] => 0
  | k, x :: l => if x = part then 12593 + (k : Int) else aloneGo part (k + 1) l
def aloneZ (part : Int) : Int := aloneGo part 0 aloneL
theorem aloneGo_at (part : Int) : ∀ (l : List Int) (k j : Nat), (∀ i, i < j → l.getD i 0 ≠ part) → j < l.length → l.getD j 0 = part → aloneGo part k l = 12593 + ((k + j : Nat) : Int)
  | [], _, _, _, h, _ => by simp at h
  | x :: l, k, 0, _, _, e => by
    have e : x = part := by simpa using e
    rw [aloneGo, if_pos e]; rfl
  | x :: l, k, j + 1, hn, h, e => by
    have h0 : x ≠ part := by simpa using hn 0 (by omega)
    rw [aloneGo, if_neg h0, aloneGo_at part l (k + 1) j (fun i hi => by simpa using hn (i + 1) (by omega)) (by simpa using h) (by simpa using e)]
    omega
theorem aloneGo_no (part : Int) : ∀ (l : List Int) (k : Nat), (∀ i, i < l.length → l.getD i 0 ≠ part) → aloneGo part k l = 0
  | [], _, _ => rfl
  | x :: l, k, hn => by
    have h0 : x ≠ part := by simpa using hn 0 (by simp)
    rw [aloneGo, if_neg h0, aloneGo_no part l (k + 1) (fun i hi => by simpa using hn (i + 1) (by simpa using hi))]
set_option maxRecDepth 100000 in
set_option maxHeartbeats 1000000 in
theorem ralone (p : Int) (w : World) : Calls Try.prog 17 #[.int .i64 p] w fun e w' => e = .returned (.int .i32 (aloneZ p)) ∧ Ext w w' := by
  have HC : Hid (∀ c, c < 30 → (w.alloc (.cells #[.int .i64 0, .int .i64 1, .int .i64 103, .int .i64 2, .int .i64 105, .int .i64 106, .int .i64 3, .int .i64 4, .int .i64 5, .int .i64 109, .int .i64 110, .int .i64 111, .int .i64 112, .int .i64 113, .int .i64 114, .int .i64 115, .int .i64 6, .int .i64 7, .int .i64 8, .int .i64 118, .int .i64 9, .int .i64 10, .int .i64 11, .int .i64 12, .int .i64 13, .int .i64 14, .int .i64 15, .int .i64 16, .int .i64 17, .int .i64 18] 3)).cell? ⟨w.heap.size, c, none⟩ = some (.int .i64 (aloneL.getD c 0))) := fun c h => arr_cell w aloneL 3 c h
  go_enter Try.func17, Try.ntmps17
  go_wp2
  go_loop [4] (fun i => ∃ k : Nat, k ≤ 30 ∧ i = .int .i64 k ∧ Hid (∀ j, j < k → aloneL.getD j 0 ≠ p)) (fun i => 30 - (intOf i).toNat)
  case atStart => exact ⟨0, by omega, rfl, fun j h => by omega⟩
  case round =>
    obtain ⟨k, hk, rfl, HN⟩ := hrel
    by_cases hlt : k < 30
    · have hc := HC.out k hlt
      have h0 : (0 : Int) ≤ k := by omega
      have h1 : (k : Int) < 30 := by omega
      by_cases he : aloneL.getD k 0 = p
      · have HF : Hid (aloneZ p = 12593 + (k : Int)) := by
          show aloneGo p 0 aloneL = _
          rw [aloneGo_at p aloneL 0 k HN.out hlt he, Nat.zero_add]
        rw [he] at hc
        clear he
        go_wp2
        go_ret
        exact ⟨by rw [HF.out]; rfl, (Ext.refl w).alloc _⟩
      · have he2 : (aloneL.getD k 0 == p) = false := beq_false_of_ne he
        have HE := Lib.hid he
        generalize aloneL.getD k 0 = v at hc he he2
        go_wp2
        go_round
        case rel =>
          refine ⟨k + 1, by omega, by go_num, fun j hj => ?_⟩
          by_cases e : j = k
          · subst e; exact HE.out
          · exact HN.out j (by omega)
        case measure => simp [intOf]; omega
    · have hk30 : k = 30 := by omega
      subst hk30
      have HF : Hid (aloneZ p = 0) := aloneGo_no p aloneL 0 (fun i hi => HN.out i hi)
      go_wp2
      go_ret
      exact ⟨by rw [HF.out]; rfl, (Ext.refl w).alloc _⟩
end Go.Proofs.Ytbjcfepjcoefcaa
