/-
  Contracts of the document's own answers for layer 1 (3): Peek, Number, ReadSafe, Want, Until.
-/
import Derived.Test.YtdegnjbpjffgmaaOct9
namespace Go.Proofs.Ytdegnjbpjffgmaa
open Go.ChangeShapes Go.WideShapes Go.ChangeAt Go.RowKit
set_option linter.unusedSimpArgs false
set_option linter.unusedVariables false

theorem mpeek_bad (t : ByteArray) (r : Nat) (ba er pl n : Int) (w : World) (he : (er != 0) = true) : Calls Try.prog 39 #[rin t r ba er pl, .int .i64 n] w fun e w' => e = .returned (.string ⟨#[]⟩) ∧ Ext w w' := by
  by_cases h1 : 0 < n
  all_goals
    go_enter Try.func39, Try.ntmps39
    go_wp2_with (go_at_call 27; refine (mleft_bad _ _ _ _ _ _ he).mono ?_; rintro e w2 ⟨rfl, rfl⟩)
    all_goals
      go_ret
      exact ⟨rfl, by repeat (first | exact Ext.refl _ | refine Ext.alloc ?_ _)⟩
theorem mpeek_low (t : ByteArray) (r : Nat) (ba pl n : Int) (w : World) (h : r ≤ t.size) (hs : t.size ≤ 1099511627776) (hn : n < 0) : Calls Try.prog 39 #[rin t r ba 0 pl, .int .i64 n] w fun e w' => e = .returned (.string (t.extract r r)) ∧ Ext w w' := by
  have e1 : (0 : Int) ≤ r := by omega
  have e3 : (r : Int) ≤ t.size := by omega
  have e4 : ¬ ((t.size : Int) - r < n) := by omega
  go_enter Try.func39, Try.ntmps39
  go_wp2_with (go_at_call 27; refine (mleft_ok _ _ _ _ _ h hs).mono ?_; rintro e w2 ⟨rfl, rfl⟩)
  go_ret
  exact ⟨by simp, by repeat (first | exact Ext.refl _ | refine Ext.alloc ?_ _)⟩
theorem mpeek_in (t : ByteArray) (r : Nat) (ba pl n : Int) (w : World) (h : r ≤ t.size) (hs : t.size ≤ 1099511627776) (hn0 : 0 ≤ n) (hn : n ≤ t.size - r) : Calls Try.prog 39 #[rin t r ba 0 pl, .int .i64 n] w fun e w' => e = .returned (.string (t.extract r (r + n.toNat))) ∧ Ext w w' := by
  have e1 : (0 : Int) ≤ r := by omega
  have e2 : (r : Int) ≤ r + n := by omega
  have e3 : (r : Int) + n ≤ t.size := by omega
  have e4 : ((r : Int) + n).toNat = r + n.toNat := by omega
  go_enter Try.func39, Try.ntmps39
  go_wp2_with (go_at_call 27; refine (mleft_ok _ _ _ _ _ h hs).mono ?_; rintro e w2 ⟨rfl, rfl⟩)
  go_ret
  exact ⟨rfl, by repeat (first | exact Ext.refl _ | refine Ext.alloc ?_ _)⟩
theorem mpeek_over (t : ByteArray) (r : Nat) (ba pl n : Int) (w : World) (h : r ≤ t.size) (hs : t.size ≤ 1099511627776) (hn : (t.size : Int) - r < n) : Calls Try.prog 39 #[rin t r ba 0 pl, .int .i64 n] w fun e w' => e = .returned (.string (t.extract r t.size)) ∧ Ext w w' := by
  have e1 : (0 : Int) ≤ r := by omega
  have e2 : (r : Int) ≤ t.size := by omega
  have e3 : ¬ ((t.size : Int) - r < 0) := by omega
  go_enter Try.func39, Try.ntmps39
  go_wp2_with (go_at_call 27; refine (mleft_ok _ _ _ _ _ h hs).mono ?_; rintro e w2 ⟨rfl, rfl⟩)
  go_ret
  refine ⟨?_, by repeat (first | exact Ext.refl _ | refine Ext.alloc ?_ _)⟩
  show Ending.returned (.string (t.extract r (r + (t.size - r)))) = _
  rw [show r + (t.size - r) = t.size from by omega]
theorem mpeek_ok (t : ByteArray) (r : Nat) (ba pl n : Int) (w : World) (h : r ≤ t.size) (hs : t.size ≤ 1099511627776) : Calls Try.prog 39 #[rin t r ba 0 pl, .int .i64 n] w fun e w' => e = .returned (.string (t.extract r (r + (shown n (t.size - r)).toNat))) ∧ Ext w w' := by
  by_cases h1 : n < 0
  · have e : r + (shown n (t.size - r)).toNat = r := by unfold shown; omega
    rw [e]; exact mpeek_low _ _ _ _ _ _ h hs h1
  by_cases h2 : n ≤ t.size - r
  · have e : r + (shown n (t.size - r)).toNat = r + n.toNat := by unfold shown; omega
    rw [e]; exact mpeek_in _ _ _ _ _ _ h hs (by omega) h2
  · have e : r + (shown n (t.size - r)).toNat = t.size := by unfold shown; omega
    rw [e]; exact mpeek_over _ _ _ _ _ _ h hs (by omega)
theorem num_step (m c : Nat) (hm : m ≤ 72057594037927935) (hc : c < 256) : IntKind.u64.wrap ((m : Int) * 256 + IntKind.u64.wrap (c : Int)) = ((m * 256 + c : Nat) : Int) := by
  have e : IntKind.u64.wrap (c : Int) = c := IntWalk.u64_in _ (by omega)
  rw [e, IntWalk.u64_in _ (by omega)]
  omega
theorem sf_num (m c : Nat) (hm : m < 4294967296) (hc : c < 256) : wrap64 (wrap64 ((m : Int) * 128) + (c : Int)) = ((m * 128 + c : Nat) : Int) := by
  have e : wrap64 ((m : Int) * 128) = (m : Int) * 128 := IntWalk.wrap64_in _ (by omega)
  rw [e, IntWalk.wrap64_in _ (by omega)]
  omega
set_option maxRecDepth 100000 in
theorem mnumber (s : ByteArray) (w : World) (hs : s.size ≤ 8) : Calls Try.prog 40 #[.string s] w fun e w' => e = .returned (.int .u64 (beN s.data.toList)) ∧ w = w' := by
  go_enter Try.func40, Try.ntmps40
  go_wp2
  go_loop [3, 4] (fun q i => ∃ k m : Nat, k ≤ s.size ∧ i = .int .i64 k ∧ q = .int .u64 m ∧ Hid (m = beN (s.data.toList.take k))) (fun _ i => s.size - (intOf i).toNat)
  case atStart => exact ⟨0, 0, Nat.zero_le _, rfl, rfl, by show 0 = beN []; rfl⟩
  case round =>
    obtain ⟨k, m, hk, rfl, rfl, HM⟩ := hrel
    by_cases hlt : k < s.size
    · have hm : m ≤ 72057594037927935 := by
        have h1 := beN_lt (s.data.toList.take k)
        have h2 : (s.data.toList.take k).length = k := by simp; omega
        rw [h2, ← HM.out] at h1
        have := pow_le7 (k := k) (by omega)
        omega
      go_wp2
      go_round
      case rel =>
        refine ⟨k + 1, m * 256 + s[k].toNat, by omega, by go_num, ?_, ?_⟩
        · rw [num_step m _ hm (UInt8.toNat_lt _)]
        · show m * 256 + s[k].toNat = beN (s.data.toList.take (k + 1))
          rw [take_snoc s k hlt, beN_snoc, HM.out]
      case measure => simp [intOf]; omega
    · have hk' : k = s.size := by omega
      subst hk'
      go_wp2
      go_ret
      refine ⟨?_, rfl⟩
      have e : beN s.data.toList = m := by rw [HM.out, List.take_of_length_le (by simp)]
      rw [e]
      rfl
theorem cells_of {w : World} {b : Nat} {c0 c1 c2 c3 c4 : Value} {T : TypeId} (h : w.heap[b]? = some (.cells #[c0, c1, c2, c3, c4] T (0, 0))) :
    w.cell? ⟨b, 0, none⟩ = some c0 ∧ w.cell? ⟨b, 1, none⟩ = some c1 ∧ w.cell? ⟨b, 2, none⟩ = some c2 ∧ w.cell? ⟨b, 3, none⟩ = some c3 ∧ w.cell? ⟨b, 4, none⟩ = some c4 := by
  simp [World.cell?, h]
theorem free_of {w : World} {b : Nat} {c0 c1 c2 c3 c4 : Value} {T : TypeId} (h : w.heap[b]? = some (.cells #[c0, c1, c2, c3, c4] T (0, 0))) (o : Nat) : w.frozen? ⟨b, o, none⟩ = false := by
  simp [World.frozen?, h]
theorem mrsafe_bad (t : ByteArray) (r : Nat) (ba er pl : Int) (w : World) (he : (er != 0) = true) (hr : (r : Int) ≤ 1099511627776) (h0 : 0 ≤ ba) (h1 : ba ≤ 1099511627776) : Calls Try.prog 41 #[rin t r ba er pl] w fun e w' => e = .returned (.tuple #[rin t r ba er pl, .int .i64 0]) ∧ Ext w w' := by
  go_enter Try.func41, Try.ntmps41
  go_wp2_with (go_at_call 38; refine (mtake_bad _ _ _ _ _ _ _ he).mono ?_; rintro e w1 ⟨rfl, rfl⟩)
  refine wp_loop_rounds 1 ?_
  rw [rounds_succ]
  go_wp2
  exact bodyPost_ret (v := .tuple #[rin t r ba er pl, .int .i64 0]) (by simp [results, Try.results41, go_sem]) rfl ⟨rfl, by repeat (first | exact Ext.refl _ | refine Ext.alloc ?_ _ | refine Ext.setCell ?_ (by simp) _)⟩
theorem mrsafe_short (t : ByteArray) (r : Nat) (ba pl : Int) (w : World) (h : r ≤ t.size) (hs : t.size ≤ 1099511627776) (h0 : 0 ≤ ba) (h1 : ba ≤ 1099511627776) (hn : (t.size : Int) - r < 4) : Calls Try.prog 41 #[rin t r ba 0 pl] w fun e w' => e = .returned (.tuple #[rin t r ba 1 (ba + t.size), .int .i64 0]) ∧ Ext w w' := by
  go_enter Try.func41, Try.ntmps41
  go_wp2_with (go_at_call 38; refine (mtake_short _ _ _ _ _ _ h hs h0 h1 (by decide) hn).mono ?_; rintro e w1 ⟨rfl, rfl⟩)
  refine wp_loop_rounds 1 ?_
  rw [rounds_succ]
  go_wp2
  exact bodyPost_ret (v := .tuple #[rin t r ba 1 (ba + t.size), .int .i64 0]) (by simp [results, Try.results41, go_sem]) rfl ⟨rfl, by repeat (first | exact Ext.refl _ | refine Ext.alloc ?_ _ | refine Ext.setCell ?_ (by simp) _)⟩
theorem mtake4 (t : ByteArray) (r : Nat) (ba pl : Int) (w : World) (h : r ≤ t.size) (hs : t.size ≤ 1099511627776) (hn : 4 ≤ (t.size : Int) - r) : Calls Try.prog 38 #[rin t r ba 0 pl, .int .i64 4] w fun e w' => ∃ s : ByteArray, Hid (s = t.extract r (r + 4)) ∧ Hid (s.size = 4) ∧ e = .returned (.tuple #[rin t (r + 4) ba 0 pl, .string s]) ∧ ((w.alloc (rino t (r + 4) ba 0 pl)).alloc (rino t (r + 4) ba 0 pl)).alloc (rino t r ba 0 pl) = w' := by
  refine (mtake_ok t r ba pl 4 w h hs (by decide) hn).mono ?_
  rintro e w' ⟨rfl, h2⟩
  refine ⟨_, rfl, ?_, rfl, h2⟩
  show (t.extract r (r + 4)).size = 4
  simp; omega
/-- What the document's Safe comes to. -/
def MSafeEnd (w : World) (t : ByteArray) (r : Nat) (ba pl : Int) (e : Ending) (w' : World) : Prop :=
  Ext w w' ∧ ((hiPart t r = 4 ∧ e = .returned (.tuple #[rin t (r + 4) ba 0 pl, .int .i64 (sfPart t r)])) ∨ (hiPart t r < 4 ∧ e = .returned (.tuple #[rin t (r + 4) ba 1 (ba + r + hiPart t r), .int .i64 0])))
set_option maxRecDepth 100000 in
set_option maxHeartbeats 1000000 in
theorem mrsafe_ok (t : ByteArray) (r : Nat) (ba pl : Int) (w : World) (h : r ≤ t.size) (hs : t.size ≤ 1099511627776) (h0 : 0 ≤ ba) (h1 : ba ≤ 1099511627776) (hn : 4 ≤ (t.size : Int) - r) : Calls Try.prog 41 #[rin t r ba 0 pl] w (MSafeEnd w t r ba pl) := by
  go_enter Try.func41, Try.ntmps41
  go_wp2_with (go_at_call 38; refine (mtake4 _ _ _ _ _ h hs hn).mono ?_; rintro e w1 ⟨s, HS, HZ, rfl, rfl⟩)
  have hsz : s.size ≤ 4 := by rw [HZ.out]; omega
  go_loop [7, 8] (fun q i => ∃ k m : Nat, k ≤ s.size ∧ k ≤ hiAt s.data.toList ∧ i = .int .i64 k ∧ q = .int .i64 m ∧ Hid (m = sfN (s.data.toList.take k))) (fun _ i => s.size - (intOf i).toNat)
  case atStart => exact ⟨0, 0, Nat.zero_le _, Nat.zero_le _, rfl, rfl, by show 0 = sfN []; rfl⟩
  case round =>
    obtain ⟨k, m, hk, hki, rfl, rfl, HM⟩ := hrel
    by_cases hlt : k < s.size
    · go_wp2_with (go_at_call 44; refine (mfail_ok _ _ _ _ _ _ _ (by decide) (by decide)).mono ?_; rintro e w3 ⟨rfl, rfl⟩)
      · have hb : (128 : Int) ≤ s[k].toNat := by assumption
        have hz : s.size = 4 := HZ.out
        have e := hiAt_at s k hlt hki (by omega)
        have hp : hiPart t r = k := by unfold hiPart; rw [show t.extract r (r + 4) = s from HS.out.symm]; exact e
        refine bodyPost_ret (v := .tuple #[rin t (r + 4) ba 1 (ba + r + k), .int .i64 0]) (by simp [results, Try.results41, go_sem]) rfl ⟨by repeat (first | exact Ext.refl _ | refine Ext.alloc ?_ _ | refine Ext.setCell ?_ (by simp) _), .inr ⟨by omega, by rw [hp]⟩⟩
      · go_round
        case rel =>
          have hb : (s[k].toNat : Int) < 128 := by assumption
          refine ⟨k + 1, m * 128 + s[k].toNat, by omega, hiAt_step s k hlt hki (by omega), by go_num, ?_, ?_⟩
          · rw [sf_num m _ ?_ (UInt8.toNat_lt _)]
            have h1 := sfN_lt (s.data.toList.take k)
            have h2 : (s.data.toList.take k).length = k := by simp; omega
            rw [h2, ← HM.out] at h1
            have h3 := Nat.pow_le_pow_right (n := 256) (by omega) (show k ≤ 4 by omega)
            exact Nat.lt_of_lt_of_le h1 (by simpa using h3)
          · show m * 128 + s[k].toNat = sfN (s.data.toList.take (k + 1))
            rw [take_snoc s k hlt, sfN_snoc, HM.out]
        case measure => simp [intOf]; omega
    · go_wp2
      have hz : s.size = 4 := HZ.out
      have hk' : k = s.size := by omega
      subst hk'
      have hp : hiPart t r = 4 := by
        unfold hiPart
        rw [show t.extract r (r + 4) = s from HS.out.symm]
        have := hiAt_le s.data.toList
        simp at this
        omega
      have hm : sfPart t r = m := by
        unfold sfPart
        rw [show t.extract r (r + 4) = s from HS.out.symm, HM.out, List.take_of_length_le (by simp)]
      refine bodyPost_ret (v := .tuple #[rin t (r + 4) ba 0 pl, .int .i64 m]) (by simp [results, Try.results41, go_sem]) rfl ⟨by repeat (first | exact Ext.refl _ | refine Ext.alloc ?_ _ | refine Ext.setCell ?_ (by simp) _), .inl ⟨hp, by rw [hm]⟩⟩
end Go.Proofs.Ytdegnjbpjffgmaa
