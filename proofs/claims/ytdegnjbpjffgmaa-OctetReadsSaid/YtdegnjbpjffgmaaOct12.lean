/-
  Contracts of the document's own answers for layer 1 (5): Until.
-/
import Derived.Test.YtdegnjbpjffgmaaOct11
namespace Go.Proofs.Ytdegnjbpjffgmaa
open Go.ChangeShapes Go.WideShapes Go.ChangeAt Go.RowKit
set_option linter.unusedSimpArgs false
set_option linter.unusedVariables false

theorem muntil_bad (s t : ByteArray) (r : Nat) (ba er pl : Int) (w : World) (he : (er != 0) = true) : Calls Try.prog 43 #[rin t r ba er pl, .string s] w fun e w' => e = .returned (.tuple #[rin t r ba er pl, .string ⟨#[]⟩]) ∧ Ext w w' := by
  go_enter Try.func43, Try.ntmps43
  go_wp2
  exact bodyPost_ret (v := .tuple #[rin t r ba er pl, .string ⟨#[]⟩]) (by simp [results, Try.results43, go_sem]) rfl ⟨rfl, by repeat (first | exact Ext.refl _ | refine Ext.alloc ?_ _ | refine Ext.setCell ?_ (by simp) _)⟩
/-- What the document's Until comes to. -/
def MUntilEnd (w : World) (t : ByteArray) (r : Nat) (ba pl : Int) (s : ByteArray) (e : Ending) (w' : World) : Prop :=
  Ext w w' ∧ ((∃ i, findBy t s (t.size + 1) r = some i ∧ e = .returned (.tuple #[rin t (i + s.size) ba 0 pl, .string (t.extract r i)])) ∨ (findBy t s (t.size + 1) r = none ∧ e = .returned (.tuple #[rin t r ba 1 (ba + t.size), .string ⟨#[]⟩])))
set_option maxRecDepth 100000 in
set_option maxHeartbeats 1000000 in
theorem muntil_ok (s t : ByteArray) (r : Nat) (ba pl : Int) (w : World) (h : r ≤ t.size) (hs : t.size ≤ 1099511627776) (hss : s.size ≤ 1099511627776) (h0 : 0 ≤ ba) (h1 : ba ≤ 1099511627776) : Calls Try.prog 43 #[rin t r ba 0 pl, .string s] w (MUntilEnd w t r ba pl s) := by
  obtain ⟨st, HST, hst⟩ : ∃ st : Nat, Hid (stepOf s.size = st) ∧ ((s.size = 0 ∧ st = 1) ∨ (1 ≤ s.size ∧ st = s.size)) := ⟨_, rfl, by unfold stepOf; omega⟩
  have hst1 : 1 ≤ st := by omega
  have hst2 : st ≤ 1099511627776 := by omega
  have hcase : ∃ b : Bool, (((s.size : Int) == 0) = b) ∧ (b = true → st = 1) ∧ (b = false → (st : Int) = s.size) := by
    rcases hst with ⟨a, b⟩ | ⟨a, b⟩
    · exact ⟨true, by rw [a]; rfl, fun _ => b, (fun h => by cases h)⟩
    · exact ⟨false, by rw [beq_eq_false_iff_ne]; omega, (fun h => by cases h), fun _ => by omega⟩
  clear hst
  obtain ⟨b, hb, hb1, hb2⟩ := hcase
  cases b
  all_goals
    first
      | (have hv := hb1 rfl; subst hv; clear hb1 hb2)
      | (have hv := hb2 rfl; obtain rfl : st = s.size := (by omega); clear hb1 hb2 hv)
    go_enter Try.func43, Try.ntmps43
    go_wp2
    go_loop [7] (fun i => ∃ k f : Nat, t.size + 1 ≤ f + k ∧ r ≤ k ∧ k ≤ 2199023255552 ∧ i = .int .i64 k ∧ Hid (findBy t s (t.size + 1) r = findBy t s f k)) (fun i => t.size + 1 - (intOf i).toNat)
    case atStart => exact ⟨r, t.size + 1, by omega, by omega, by omega, rfl, rfl⟩
    case round =>
      obtain ⟨k, f, hf, hrk, hk, rfl, HF⟩ := hrel
      by_cases hlt : (k : Int) + s.size ≤ t.size
      · have e1 : (0 : Int) ≤ k := by omega
        have e2 : (k : Int) ≤ k + s.size := by omega
        have e4 : ((k : Int) + s.size).toNat = k + s.size := by omega
        have e5 : (0 : Int) ≤ r := by omega
        have e6 : (r : Int) ≤ k := by omega
        have e7 : (k : Int) ≤ t.size := by omega
        go_wp2
        · have hb : ((t.extract k (k + s.size)).toList == s.toList) = true := by assumption
          have hx := findBy_hit t s f k (by omega) (by omega) hb
          refine bodyPost_ret (v := .tuple #[rin t (k + s.size) ba 0 pl, .string (t.extract r k)]) (by simp [results, Try.results43, go_sem]) rfl ⟨by repeat (first | exact Ext.refl _ | refine Ext.alloc ?_ _ | refine Ext.setCell ?_ (by simp) _), .inl ⟨k, HF.out.trans hx, rfl⟩⟩
        · go_round
          case rel =>
            have hb : ((t.extract k (k + s.size)).toList == s.toList) = false := by assumption
            have hx := findBy_miss t s f k (by omega) (by omega) hb
            first
              | exact ⟨k + 1, f - 1, by omega, by omega, by omega, by go_num, by have := HST.out; rw [this] at hx; exact HF.out.trans hx⟩
              | exact ⟨k + s.size, f - 1, by omega, by omega, by omega, by go_num, by have := HST.out; rw [this] at hx; exact HF.out.trans hx⟩
          case measure => simp [intOf]; omega
      · go_wp2_with (go_at_call 44; refine (mfail_ok _ _ _ _ _ _ _ (by decide) (by decide)).mono ?_; rintro e w3 ⟨rfl, rfl⟩)
        have hx := findBy_end t s f k (by omega)
        refine bodyPost_ret (v := .tuple #[rin t r ba 1 (ba + t.size), .string ⟨#[]⟩]) (by simp [results, Try.results43, go_sem]) rfl ⟨by repeat (first | exact Ext.refl _ | refine Ext.alloc ?_ _ | refine Ext.setCell ?_ (by simp) _), .inr ⟨HF.out.trans hx, rfl⟩⟩
end Go.Proofs.Ytdegnjbpjffgmaa
