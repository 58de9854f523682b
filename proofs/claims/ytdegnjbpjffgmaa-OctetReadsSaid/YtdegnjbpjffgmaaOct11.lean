/-
  Contracts of the document's own answers for layer 1 (4): Want, Until.
-/
import Derived.Test.YtdegnjbpjffgmaaOct10
namespace Go.Proofs.Ytdegnjbpjffgmaa
open Go.ChangeShapes Go.WideShapes Go.ChangeAt Go.RowKit
set_option linter.unusedSimpArgs false
set_option linter.unusedVariables false

theorem mwant_bad (s t : ByteArray) (r : Nat) (ba er pl : Int) (w : World) (he : (er != 0) = true) : Calls Try.prog 42 #[rin t r ba er pl, .string s] w fun e w' => e = .returned (.tuple #[rin t r ba er pl, .bool false]) ∧ Ext w w' := by
  go_enter Try.func42, Try.ntmps42
  go_wp2
  exact bodyPost_ret (v := .tuple #[rin t r ba er pl, .bool false]) (by simp [results, Try.results42, go_sem]) rfl ⟨rfl, by repeat (first | exact Ext.refl _ | refine Ext.alloc ?_ _ | refine Ext.setCell ?_ (by simp) _)⟩
theorem mfail_ext (t : ByteArray) (r : Nat) (ba pl c n : Int) (w : World) (hc : (c == 0) = false) (hc2 : (c != 0) = true) : Calls Try.prog 44 #[rin t r ba 0 pl, .int .i64 c, .int .i64 n] w fun e w' => e = .returned (rin t r ba c n) ∧ Ext w w' :=
  (mfail_ok t r ba pl c n w hc hc2).mono fun e w' ⟨h1, h2⟩ => ⟨h1, by rw [← h2]; exact ((Ext.refl _).alloc _).alloc _⟩
/-- What the document's Want comes to. -/
def MWantEnd (w : World) (t : ByteArray) (r : Nat) (ba pl : Int) (s : ByteArray) (e : Ending) (w' : World) : Prop :=
  Ext w w' ∧ ((cpAt t r s = s.size ∧ e = .returned (.tuple #[rin t (r + s.size) ba 0 pl, .bool true])) ∨ (cpAt t r s < s.size ∧ e = .returned (.tuple #[rin t r ba 1 (ba + r + cpAt t r s), .bool false])))
set_option maxRecDepth 100000 in
set_option maxHeartbeats 1000000 in
theorem mwant_ok (s t : ByteArray) (r : Nat) (ba pl : Int) (w : World) (h : r ≤ t.size) (hs : t.size ≤ 1099511627776) (hss : s.size ≤ 1099511627776) (h0 : 0 ≤ ba) (h1 : ba ≤ 1099511627776) : Calls Try.prog 42 #[rin t r ba 0 pl, .string s] w (MWantEnd w t r ba pl s) := by
  have hcl := cpAt_le t r s h
  go_enter Try.func42, Try.ntmps42
  go_wp2
  go_loopw [6] (fun i wr => ∃ k : Nat, k ≤ cpAt t r s ∧ i = .int .i64 k ∧ Ext w wr ∧ wr.heap[w.heap.size]? = some (rino t r ba 0 pl) ∧ wr.heap[w.heap.size + 1]? = some (.cells #[.string ⟨#[]⟩, .int .i64 0, .int .i64 0, .int .i64 0, .int .i64 0] 43)) (fun i _ => s.size + 1 - (intOf i).toNat)
  case atStart => exact ⟨0, Nat.zero_le _, rfl, ((Ext.refl _).alloc _).alloc _, (Below.heap_alloc _ _ _ (by simp)).trans (heap_alloc_new w _), by have := heap_alloc_new (w.alloc (rino t r ba 0 pl)) (.cells #[.string ⟨#[]⟩, .int .i64 0, .int .i64 0, .int .i64 0, .int .i64 0] 43); simpa using this⟩
  case round =>
    obtain ⟨k, hk, rfl, hx, hp, hq⟩ := hrel
    obtain ⟨a0, a1, a2, a3, a4⟩ := cells_of hp
    have hz1 := lt_of_block hq
    have hz0 := lt_of_block hp
    have HP := Lib.hid hp
    have HQ := Lib.hid hq
    have fa := free_of hp 1
    obtain ⟨b0, b1, b2, b3, b4⟩ := cells_of hq
    have fb0 := free_of hq 0
    have fb1 := free_of hq 1
    have fb2 := free_of hq 2
    have fb3 := free_of hq 3
    have fb4 := free_of hq 4
    clear hp hq
    by_cases hlt : k < s.size
    · by_cases hlt2 : r + k < t.size
      · have hi0 : (0 : Int) ≤ k := by omega
        have hi1 : (0 : Int) ≤ r + k := by omega
        have hi2 : (r : Int) + k < t.size := by omega
        have hi3 : (k : Int) < s.size := by omega
        have hi4 : ((r : Int) + k).toNat = r + k := by omega
        have hw4 : IntKind.i64.wrap ((r : Int) + k) = r + k := IntWalk.i64_in _ (by omega)
        go_wp2
        go_quiet (fail)
        clear hw4
        go_wp2_with (go_at_call 44; refine (mfail_ext _ _ _ _ _ _ _ (by decide) (by decide)).mono ?_; rintro e w3 ⟨rfl, hb3⟩; have hq3 := (hb3.block _ hz1).trans HQ.out; obtain ⟨d0, d1, d2, d3, d4⟩ := cells_of hq3; have g0 := free_of hq3 0; have g1 := free_of hq3 1; have g2 := free_of hq3 2; have g3 := free_of hq3 3; have g4 := free_of hq3 4; have x3 := (hx.drewN _).trans hb3; clear hq3 hb3)
        · have hne : ((t[r + k].toNat : Int) != (s[k].toNat : Int)) = true := by assumption
          have hc : ¬ k + 1 ≤ cpAt t r s := by
            rw [cpAt_get t r s k hlt2 hlt hk]
            intro h
            rw [h] at hne
            simp at hne
          have e : cpAt t r s = k := by omega
          refine bodyPost_ret (v := .tuple #[rin t r ba 1 (ba + r + k), .bool false]) (by simp [results, Try.results42, go_sem, d0, d1, d2, d3, d4]) rfl ⟨?_, .inr ⟨by omega, by rw [e]⟩⟩
          repeat (with_reducible refine Ext.setCell ?_ (by simp) _)
          with_reducible exact x3
        · go_roundw
          case rel =>
            have hne : ((t[r + k].toNat : Int) != (s[k].toNat : Int)) = false := by assumption
            have hc : k + 1 ≤ cpAt t r s := by
              rw [cpAt_get t r s k hlt2 hlt hk]
              simp at hne
              exact UInt8.toNat_inj.1 (by omega)
            exact ⟨k + 1, hc, by go_num, hx.drewN _, HP.out, HQ.out⟩
          case measure => simp [intOf]; omega
      · go_wp2_with (go_at_call 44; refine (mfail_ext _ _ _ _ _ _ _ (by decide) (by decide)).mono ?_; rintro e w3 ⟨rfl, hb3⟩; have hq3 := (hb3.block _ hz1).trans HQ.out; obtain ⟨d0, d1, d2, d3, d4⟩ := cells_of hq3; have g0 := free_of hq3 0; have g1 := free_of hq3 1; have g2 := free_of hq3 2; have g3 := free_of hq3 3; have g4 := free_of hq3 4; have x3 := (hx).trans hb3; clear hq3 hb3)
        have e : ba + t.size = ba + r + cpAt t r s := by omega
        refine bodyPost_ret (v := .tuple #[rin t r ba 1 (ba + t.size), .bool false]) (by simp [results, Try.results42, go_sem, d0, d1, d2, d3, d4]) rfl ⟨?_, .inr ⟨by omega, by rw [← e]⟩⟩
        repeat (with_reducible refine Ext.setCell ?_ (by simp) _)
        with_reducible exact x3
    · go_wp2
      have e : cpAt t r s = s.size := by omega
      refine bodyPost_ret (v := .tuple #[rin t (r + s.size) ba 0 pl, .bool true]) (by simp [results, Try.results42, go_sem, b0, b1, b2, b3, b4]) rfl ⟨?_, .inl ⟨e, rfl⟩⟩
      repeat (with_reducible refine Ext.setCell ?_ (by simp) _)
      with_reducible exact hx
end Go.Proofs.Ytdegnjbpjffgmaa
