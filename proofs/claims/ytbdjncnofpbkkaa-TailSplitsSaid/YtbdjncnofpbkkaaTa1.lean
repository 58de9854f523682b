/-
  Layer 12, the document (1): Width, Cut, Check.
-/
import Derived.Test.YtbdjncnofpbkkaaTa0
namespace Go.Proofs.Ytbdjncnofpbkkaa
open Go Go.ChangeShapes Go.WideShapes Go.ChangeAt Go.RowKit
set_option linter.unusedSimpArgs false
set_option linter.unusedVariables false

set_option maxRecDepth 100000 in
theorem rwidth (i k : Int) (w : World) : Calls Try.prog 38 #[.int .i64 i, .int .i64 k] w fun e w' => e = .returned (.int .i64 (widthZ i k)) ∧ w = w' := by
  unfold widthZ
  by_cases h3 : i = 3
  · have g3 : (i == 3) = true := beq_iff_eq.2 h3
    rw [if_pos h3]
    clear h3
    go_enter Try.func38, Try.ntmps38
    go_wp2
    go_ret
    exact ⟨rfl, rfl⟩
  · have g3 : (i == 3) = false := beq_false_of_ne h3
    rw [if_neg h3]
    by_cases h4 : i = 4
    · have g4 : (i == 4) = true := beq_iff_eq.2 h4
      by_cases hk : k = 0
      · have gk : (k != 0) = false := by rw [hk]; rfl
        rw [if_neg (fun h => h.2 hk)]
        clear h3 h4 hk
        go_enter Try.func38, Try.ntmps38
        go_wp2
        go_ret
        exact ⟨rfl, rfl⟩
      · have gk : (k != 0) = true := by rw [bne, beq_false_of_ne hk]; rfl
        rw [if_pos ⟨h4, hk⟩]
        clear h3 h4 hk
        go_enter Try.func38, Try.ntmps38
        go_wp2
        go_ret
        exact ⟨rfl, rfl⟩
    · have g4 : (i == 4) = false := beq_false_of_ne h4
      rw [if_neg (fun h => h4 h.1)]
      clear h3 h4
      go_enter Try.func38, Try.ntmps38
      go_wp2
      go_ret
      exact ⟨rfl, rfl⟩
set_option maxRecDepth 100000 in
set_option maxHeartbeats 1000000 in
theorem rcut (s : ByteArray) (w : World) (hs : s.size ≤ 1000000) : Calls Try.prog 39 #[.string s] w fun e w' => e = .returned (.string (cutZ s)) ∧ w = w' := by
  have HA := Lib.hid (fun k h h0 hj => cutZ_at s k h h0 hj)
  have HE := Lib.hid (fun hj => cutZ_all s hj)
  generalize cutZ s = R at HA HE ⊢
  go_enter Try.func39, Try.ntmps39
  go_wp2
  go_loopw [3] (fun i wr => ∃ k : Nat, k ≤ s.size ∧ i = .int .i64 k ∧ wr = w ∧ Hid (∀ j (hj : j < s.size), j < k → s[j].toNat ≠ 0)) (fun i _ => s.size - (intOf i).toNat)
  case atStart => exact ⟨0, by omega, rfl, rfl, fun j _ h => absurd h (by omega)⟩
  case round =>
    obtain ⟨k, hk, rfl, rfl, HJ⟩ := hrel
    by_cases hlt : k < s.size
    · have hki : (k : Int) < s.size := by omega
      by_cases h0 : s[k].toNat = 0
      · have g0 : ((s[k].toNat : Int) == 0) = true := by rw [h0]; rfl
        have HR := Lib.hid (HA.out k hlt h0 HJ.out)
        clear HA HE HJ h0
        go_wp2
        go_ret
        exact ⟨by first | (rw [HR.out]; done) | (rw [HR.out]; rfl), rfl⟩
      · have g0 : ((s[k].toNat : Int) == 0) = false := beq_false_of_ne (by omega)
        have HN : Hid (∀ j (hj : j < s.size), j < k + 1 → s[j].toNat ≠ 0) := fun j hj hjk => by
          by_cases e : j = k
          · subst e; exact h0
          · exact HJ.out j hj (by omega)
        clear HA HE HJ h0
        go_wp2
        go_roundw
        case rel => exact ⟨k + 1, by omega, by go_num, by first | rfl | trivial, HN⟩
        case measure => simp [intOf]; omega
    · have hke : k = s.size := by omega
      subst hke
      have hki : ¬ (s.size : Int) < s.size := by omega
      have HR := Lib.hid (HE.out (fun j hj => HJ.out j hj hj))
      clear HA HE HJ
      go_wp2
      go_ret
      exact ⟨by first | (rw [HR.out]; done) | (rw [HR.out]; rfl), rfl⟩
/-! ### Blocks of seven cells -/
theorem facts7 {w : World} {b : Nat} {v0 v1 v2 v3 v4 v5 v6 : Value} {T : TypeId} (h : w.heap[b]? = some (.cells #[v0, v1, v2, v3, v4, v5, v6] T (0, 0))) :
    w.cell? ⟨b, 0, none⟩ = some v0 ∧ w.cell? ⟨b, 1, none⟩ = some v1 ∧ w.cell? ⟨b, 2, none⟩ = some v2 ∧ w.cell? ⟨b, 3, none⟩ = some v3 ∧ w.cell? ⟨b, 4, none⟩ = some v4 ∧ w.cell? ⟨b, 5, none⟩ = some v5 ∧ w.cell? ⟨b, 6, none⟩ = some v6 := by
  refine ⟨?_, ?_, ?_, ?_, ?_, ?_, ?_⟩ <;> simp [World.cell?, h]
theorem free7 {w : World} {b : Nat} {v0 v1 v2 v3 v4 v5 v6 : Value} {T : TypeId} (h : w.heap[b]? = some (.cells #[v0, v1, v2, v3, v4, v5, v6] T (0, 0))) (j : Nat) : w.frozen? ⟨b, j, none⟩ = false := by
  simp [World.frozen?, h]
theorem string_ne (a b : ByteArray) (h : a ≠ b) : (a.toList == b.toList) = false := by
  rw [ByteArray.toList_eq, ByteArray.toList_eq]
  refine beq_false_of_ne (fun e => h ?_)
  apply ByteArray.ext
  exact Array.toList_inj.1 e
end Go.Proofs.Ytbdjncnofpbkkaa
