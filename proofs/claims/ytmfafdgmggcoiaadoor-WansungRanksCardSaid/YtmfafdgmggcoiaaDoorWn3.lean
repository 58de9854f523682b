/-
  The document's answers of layer 7 (2): the k-th syllable in the rows, or not; how many are ahead of one; second bytes.
-/
import Derived.Test.YtmfafdgmggcoiaaDoorWn2
namespace Go.Proofs.YtmfafdgmggcoiaaDoor
open Go Go.ChangeShapes Go.WideShapes Go.ChangeAt Go.RowKit
set_option linter.unusedSimpArgs false
set_option linter.unusedVariables false

theorem kthZ_some {b : Bool} {k i : Nat} (h : kthM b k = some i) : kthZ b k = 44032 + (i : Int) := by
  unfold kthZ
  rw [if_neg (by omega), Int.toNat_natCast, h]
theorem kthZ_none {b : Bool} {k : Nat} (h : kthM b k = none) : kthZ b k = 0 := by
  unfold kthZ
  rw [if_neg (by omega), Int.toNat_natCast, h]
theorem kthZ_neg {b : Bool} {k : Int} (h : k < 0) : kthZ b k = 0 := if_pos h
theorem rkth_neg (k : Int) (b : Bool) (w : World) (h : k < 0) : Calls Tryd.prog 13 #[.int .i64 k, .bool b] w fun e w' => e = .returned (.int .i32 0) ∧ w = w' := by
  go_enter Tryd.func13, Tryd.ntmps13
  go_wp2
  go_ret
  exact ⟨rfl, rfl⟩
set_option maxRecDepth 100000 in
set_option maxHeartbeats 1000000 in
theorem rkth_nat (k : Nat) (b : Bool) (w : World) (hk : k ≤ 1000000) : Calls Tryd.prog 13 #[.int .i64 k, .bool b] w fun e w' => e = .returned (.int .i32 (kthZ b k)) ∧ w = w' := by
  have HIN := Lib.hid (fun (n : Nat) (h : n < 11172) w => rin n w h)
  obtain ⟨r, hr⟩ : ∃ r, kthZ b k = r := ⟨_, rfl⟩
  rw [hr]
  have HR := Lib.hid hr
  have hk1 : (k : Int) ≤ 1000000 := by omega
  clear hr
  go_enter Tryd.func13, Tryd.ntmps13
  go_wp2
  go_loop [0, 5] (fun a i => ∃ m n : Nat, n ≤ 11172 ∧ m ≤ 1000000 ∧ a = .int .i64 m ∧ i = .int .i64 n ∧ Hid (rankM b n + m = k)) (fun _ i => 11172 - (intOf i).toNat)
  case atStart => exact ⟨k, 0, by omega, hk, rfl, rfl, by show rankM b 0 + k = k; rw [show rankM b 0 = 0 from rfl, Nat.zero_add]⟩
  case round =>
    obtain ⟨m, n, hn, hm, rfl, rfl, HM⟩ := hrel
    by_cases hlt : n < 11172
    · have h8 : (n : Int) < 11172 := by omega
      have HB := Lib.hid (fun w => HIN.out n hlt w)
      have HSU := Lib.hid (rankM_succ b n)
      have HI : Hid (m = 0 → inM n = b → r = 44032 + (n : Int)) := fun h0 hb => by
        rw [← HR.out]
        exact kthZ_some ((kthM_iff b k n).2 ⟨hlt, hb, by have := HM.out; omega⟩)
      by_cases hb : inM n = b
      · rw [hb] at HB HSU
        have hbb : (b == b) = true := by simp
        by_cases h0 : m = 0
        · have HF := Lib.hid (HI.out h0 hb)
          subst h0
          clear hb HI
          go_wp2_with (go_at_call 9; refine (HB.out _).mono ?_; rintro e w1 ⟨rfl, rfl⟩)
          go_ret
          exact ⟨by rw [HF.out]; rfl, rfl⟩
        · have h1 : ((m : Int) == 0) = false := beq_false_of_ne (by omega)
          obtain ⟨q, rfl⟩ : ∃ q, m = q + 1 := ⟨m - 1, by omega⟩
          clear hb HI h0
          go_wp2_with (go_at_call 9; refine (HB.out _).mono ?_; rintro e w1 ⟨rfl, rfl⟩)
          go_round
          case rel => exact ⟨q, n + 1, by omega, by omega, by go_num, by go_num, by show _ = _; rw [HSU.out, if_pos (by simp)]; have := HM.out; omega⟩
          case measure => simp [intOf]; omega
      · have hbb : (inM n == b) = false := by simpa using hb
        rw [hbb] at HSU
        generalize inM n = c at HB hbb
        clear hb HI
        go_wp2_with (go_at_call 9; refine (HB.out _).mono ?_; rintro e w1 ⟨rfl, rfl⟩)
        go_round
        case rel => exact ⟨m, n + 1, by omega, by omega, rfl, by go_num, by show _ = _; rw [HSU.out]; have := HM.out; simpa using this⟩
        case measure => simp [intOf]; omega
    · have hn2 : n = 11172 := by omega
      subst hn2
      have HF : Hid (r = 0) := by
        show _ = _
        rw [← HR.out]
        exact kthZ_none (kthM_none b k (by have := HM.out; omega))
      go_wp2
      go_ret
      exact ⟨by rw [HF.out]; rfl, rfl⟩
set_option maxRecDepth 100000 in
set_option maxHeartbeats 1000000 in
theorem rrank (n : Nat) (w : World) (hn : n < 11172) : Calls Tryd.prog 10 #[.int .i64 n] w fun e w' => e = .returned (.int .i64 (rankM (inM n) n)) ∧ w = w' := by
  have HIN := Lib.hid (fun (n : Nat) (h : n < 11172) w => rin n w h)
  obtain ⟨b, hb⟩ : ∃ b, inM n = b := ⟨_, rfl⟩
  have HB : Hid (∀ w, Calls Tryd.prog 9 #[.int .i64 n] w fun e w' => e = .returned (.bool b) ∧ w = w') := fun w => by rw [← hb]; exact HIN.out n hn w
  rw [hb]
  clear hb
  go_enter Tryd.func10, Tryd.ntmps10
  go_wp2
  go_loop [3, 4] (fun a i => ∃ m : Nat, m ≤ n ∧ a = .int .i64 (rankM b m) ∧ i = .int .i64 m) (fun _ i => n - (intOf i).toNat)
  case atStart => exact ⟨0, by omega, rfl, rfl⟩
  case round =>
    obtain ⟨m, hm, rfl, rfl⟩ := hrel
    have hle := rankM_le b m
    by_cases hlt : m < n
    · have HBm := Lib.hid (fun w => HIN.out m (by omega) w)
      have HSU := Lib.hid (rankM_succ b m)
      by_cases hb : inM m = b
      · rw [hb] at HBm HSU
        have hbb : (b == b) = true := by simp
        generalize rankM b m = c at HSU hle
        clear hb
        go_wp2_with (first
          | (go_at_call 9; have hq := HBm; clear HBm; refine (hq.out _).mono ?_; clear hq; rintro e w1 ⟨rfl, rfl⟩)
          | (go_at_call 9; refine (HB.out _).mono ?_; rintro e w1 ⟨rfl, rfl⟩))
        go_round
        case rel => exact ⟨m + 1, by omega, by rw [HSU.out, if_pos (by simp)]; go_num, by go_num⟩
        case measure => simp [intOf]; omega
      · have hbb : (inM m == b) = false := by simpa using hb
        rw [hbb] at HSU
        generalize inM m = c at HBm hbb
        generalize rankM b m = d at HSU hle
        clear hb
        go_wp2_with (first
          | (go_at_call 9; have hq := HBm; clear HBm; refine (hq.out _).mono ?_; clear hq; rintro e w1 ⟨rfl, rfl⟩)
          | (go_at_call 9; refine (HB.out _).mono ?_; rintro e w1 ⟨rfl, rfl⟩))
        go_round
        case rel => exact ⟨m + 1, by omega, by rw [HSU.out]; simp, by go_num⟩
        case measure => simp [intOf]; omega
    · have hmn : m = n := by omega
      subst hmn
      go_wp2
      go_ret
      exact ⟨rfl, rfl⟩
theorem rsecond (b : Int) (w : World) (h0 : -1000 ≤ b) (h1 : b ≤ 1000) : Calls Tryd.prog 25 #[.int .i64 b] w fun e w' => e = .returned (.int .i64 (secZ b)) ∧ w = w' := by
  unfold secZ
  by_cases a : 65 ≤ b ∧ b ≤ 90
  · rw [if_pos a]
    obtain ⟨a1, a2⟩ := a
    go_enter Tryd.func25, Tryd.ntmps25
    go_wp2
    go_ret
    exact ⟨rfl, rfl⟩
  rw [if_neg a]
  by_cases c : 97 ≤ b ∧ b ≤ 122
  · rw [if_pos c]
    obtain ⟨c1, c2⟩ := c
    have a1 : 65 ≤ b := by omega
    have a2 : ¬ b ≤ 90 := by omega
    clear a
    go_enter Tryd.func25, Tryd.ntmps25
    go_wp2
    go_ret
    exact ⟨rfl, rfl⟩
  rw [if_neg c]
  by_cases d : 129 ≤ b ∧ b ≤ 254
  · rw [if_pos d]
    obtain ⟨d1, d2⟩ := d
    have a1 : 65 ≤ b := by omega
    have a2 : ¬ b ≤ 90 := by omega
    have c1 : 97 ≤ b := by omega
    have c2 : ¬ b ≤ 122 := by omega
    clear a c
    go_enter Tryd.func25, Tryd.ntmps25
    go_wp2
    go_ret
    exact ⟨rfl, rfl⟩
  rw [if_neg d]
  have hh : b < 65 ∨ (65 ≤ b ∧ ¬ b ≤ 90 ∧ b < 97) ∨ (65 ≤ b ∧ ¬ b ≤ 90 ∧ 97 ≤ b ∧ ¬ b ≤ 122 ∧ b < 129) ∨ (65 ≤ b ∧ ¬ b ≤ 90 ∧ 97 ≤ b ∧ ¬ b ≤ 122 ∧ 129 ≤ b ∧ ¬ b ≤ 254) := by omega
  clear a c d
  rcases hh with e1 | ⟨e1, e2, e3⟩ | ⟨e1, e2, e3, e4, e5⟩ | ⟨e1, e2, e3, e4, e5, e6⟩
  · have e2 : ¬ 65 ≤ b := by omega
    have e3 : ¬ 97 ≤ b := by omega
    have e4 : ¬ 129 ≤ b := by omega
    go_enter Tryd.func25, Tryd.ntmps25
    go_wp2
    go_ret
    exact ⟨rfl, rfl⟩
  · have e4 : ¬ 97 ≤ b := by omega
    have e5 : ¬ 129 ≤ b := by omega
    go_enter Tryd.func25, Tryd.ntmps25
    go_wp2
    go_ret
    exact ⟨rfl, rfl⟩
  · have e6 : ¬ 129 ≤ b := by omega
    go_enter Tryd.func25, Tryd.ntmps25
    go_wp2
    go_ret
    exact ⟨rfl, rfl⟩
  · go_enter Tryd.func25, Tryd.ntmps25
    go_wp2
    go_ret
    exact ⟨rfl, rfl⟩
end Go.Proofs.YtmfafdgmggcoiaaDoor
