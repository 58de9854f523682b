/-
  Layer 7, the code (4): how many are ahead of one; Place, Extra, Rank.
-/
import Derived.Test.YtmfafdgmggcoiaaGreatDoorWc3
import Derived.Deep.RegionHeld3
namespace Go.Proofs.YtmfafdgmggcoiaaGreatDoor
open Go Go.ChangeShapes Go.WideShapes Go.ChangeAt Go.RowKit
set_option linter.unusedSimpArgs false
set_option linter.unusedVariables false

theorem ones_x (x : Nat) (h : x < 268435456) (w : World) : Calls Tryz.prog 88 #[.int .u64 x] w fun e w' => e = .returned (.int .i64 (pcl x 28 : Nat)) ∧ Ext w w' :=
  (ones_at x h w).mono fun e w' h => ⟨h.1, by rw [← h.2]; exact Ext.refl _⟩
theorem low_bits (y t : Nat) (hy : y < 268435456) (ht : t < 28) : bits .and .u64 (y : Int) (IntKind.u64.wrap (IntKind.u64.wrap (2 ^ t) - 1)) = ((y % 2 ^ t : Nat) : Int) := by
  have h1 : 2 ^ t ≤ 2 ^ 27 := Nat.pow_le_pow_right (by decide) (by omega)
  have h2 := Nat.two_pow_pos t
  have e1 : (2 : Int) ^ t = ((2 ^ t : Nat) : Int) := by simp
  rw [e1, ← Nat.and_two_pow_sub_one_eq_mod]
  generalize 2 ^ t = p at h1 h2
  rw [wrap_u64_nat p (by omega), show ((p : Int) - 1) = ((p - 1 : Nat) : Int) by omega, wrap_u64_nat _ (by omega), bits_and_u64_nat _ _ (by omega) (by omega)]
set_option maxRecDepth 100000 in
set_option maxHeartbeats 4000000 in
theorem rank_at (n : Nat) (W : World) (hT : Tab7 W) (hn : n < 11172) :
    Calls Tryz.prog 71 #[.int .i64 n] W fun e w' => e = .returned (.tuple #[.int .i64 (rankM (inM n) n : Nat), .bool (inM n)]) ∧ Ext W w' := by
  obtain ⟨q, t, hq, ht, hnn⟩ : ∃ q t : Nat, q < 399 ∧ t < 28 ∧ n = 28 * q + t := ⟨n / 28, n % 28, by omega, by omega, by omega⟩
  have HB := Lib.hid (selW_bit true q t ht)
  have HRW := Lib.hid (rank_word (inM n) q t (by omega))
  rw [← hnn] at HB HRW
  have HT := Lib.hid hT
  have HW := Lib.hid (fun (b : Bool) (i : Nat) (h : i < 399) w => word_at b i h w)
  have hl := selW_lt true q
  have h1 : (n : Int) / 28 = (q : Int) := by omega
  have h2 : (n : Int) % 28 = (t : Int) := by omega
  have h3 : (q : Int) < 399 := by omega
  have h4 : (t : Int) < 28 := by omega
  have h5 : (n : Int) < 11172 := by omega
  have HWT := Lib.hid (fun w => word_at true q hq w)
  obtain ⟨x, hx⟩ : ∃ x, x = selW true q := ⟨_, rfl⟩
  rw [← hx] at HB HWT hl
  obtain ⟨b, hb⟩ : ∃ b, b = inM n := ⟨_, rfl⟩
  rw [← hb] at HB HRW ⊢
  have hl2 : (x : Int) < 268435456 := by omega
  obtain ⟨m, s, hs, hqm⟩ : ∃ m s : Nat, s < 7 ∧ q = 7 * m + s := ⟨q / 7, q % 7, by omega, by omega⟩
  have h6 : (q : Int) / 7 = (m : Int) := by omega
  have h7 : (q : Int) % 7 = (s : Int) := by omega
  have h8 : (s : Int) < 7 := by omega
  have hbit : (bits .and .u64 ((x : Int) / 2 ^ t) 1 == 1) = b := by
    have e1 : ((x : Int) / 2 ^ t) = ((x / 2 ^ t : Nat) : Int) := by simp
    have e2 : x / 2 ^ t ≤ x := Nat.div_le_self _ _
    rw [e1, show (1 : Int) = ((1 : Nat) : Int) from rfl, bits_and_u64_nat _ _ (by omega) (by decide), Nat.and_one_is_mod, HB.out]
    cases b <;> rfl
  have HA := Lib.hid (fun w hT => ahead_at b m (by omega) w hT)
  rw [show 196 * m = 28 * (7 * m) by omega] at HA
  have HQM := Lib.hid hqm
  have hr1 := rankM_le b (28 * (7 * m))
  obtain ⟨f, hf⟩ : ∃ f, f = rankM b n := ⟨_, rfl⟩
  rw [← hf] at HRW ⊢
  clear hb hx hnn hT hqm hf
  go_enter Tryz.func71, Tryz.ntmps71
  go_wp2_with (first
    | (go_at_call 87; refine (HWT.out _).mono ?_; rintro e w1 ⟨rfl, hb1⟩)
    | (go_at_call 86; refine (HA.out _ (HT.out.ext hb1)).mono ?_; rintro e w2 ⟨rfl, rfl⟩))
  simp only [h7]
  go_loopw [7, 8] (fun vk vi wr => ∃ i : Nat, i ≤ q ∧ vk = .int .i64 (rankM b (28 * i) : Nat) ∧ vi = .int .i64 i ∧ Ext W wr) (fun _ vi _ => q - (intOf vi).toNat)
  case atStart => exact ⟨7 * m, by have := HQM.out; omega, rfl, by have := HQM.out; rw [show ((7 * m : Nat) : Int) = (q : Int) - (s : Int) by omega], hb1⟩
  case round =>
    obtain ⟨i, hi, rfl, rfl, hx⟩ := hrel
    have hri := rankM_le b (28 * i)
    by_cases hlt : i < q
    · have hWi := Lib.hid (fun w => HW.out b i (by omega) w)
      have hOi := Lib.hid (fun w => ones_x (selW b i) (selW_lt b i) w)
      have HRN := Lib.hid (rank_next b i)
      have hpi := pcl_le (selW b i) 28
      have hyl := selW_lt b i
      generalize selW b i = y at hWi hOi HRN hpi hyl
      generalize pcl y 28 = p at hOi HRN hpi
      have hlt2 : (i : Int) < (q : Int) := by omega
      have hp2 : (p : Int) ≤ 28 := by omega
      obtain ⟨v, hv⟩ : ∃ v, v = rankM b (28 * i) := ⟨_, rfl⟩
      rw [← hv] at HRN hri ⊢
      have hv2 : (v : Int) ≤ 11172 := by omega
      clear hv hb1 hyl
      go_wp2_with (first
        | (go_at_call 87; refine (hWi.out _).mono ?_; rintro e w3 ⟨rfl, hb3⟩)
        | (go_at_call 88; refine (hOi.out _).mono ?_; rintro e w4 ⟨rfl, hb4⟩))
      go_roundw
      case rel => exact ⟨i + 1, by omega, by rw [HRN.out]; go_num, by go_num, (hx.trans hb3).trans hb4⟩
      case measure => simp [intOf]; omega
    · obtain rfl : i = q := by omega
      have hyl := selW_lt b i
      have hWi := Lib.hid (fun w => HW.out b i (by omega) w)
      have hpb := pcl_below (selW b i) t (by omega)
      have hpi := pcl_le (selW b i) t
      have hym : selW b i % 2 ^ t < 268435456 := Nat.lt_of_le_of_lt (Nat.mod_le _ _) hyl
      rw [pcl_28 _ hym] at hpb
      have hOi := Lib.hid (fun w => ones_x (selW b i % 2 ^ t) hym w)
      rw [hpb, ← low_bits _ t hyl ht] at hOi
      have hC := hx.drew
      clear hx hb1 hpb hyl hym
      have hri2 := rankM_le b (28 * i)
      have HRW2 := HRW
      clear HRW
      generalize rankM b (28 * i) = v at hri2 HRW2
      generalize selW b i = y at hWi hOi HRW2 hpi
      generalize pcl y t = p at hOi HRW2 hpi
      have hp2 : (p : Int) ≤ 28 := by omega
      have hv2 : (v : Int) ≤ 20000 := by omega
      go_wp2_with fail
      refine wp_region_held_drew (S := (fun _ => True)) (by kernel_rfl) ?_ (fun hHeld => ?_)
      · (try dsimp only); try go_keep
      refine' wpAnyH_take (i := 0) (oi := { dst := some 38, op := _, type := _, pos := _, after := _, guard := _ }) (v := _) ?hixa0 (by kernel_rfl) ?hfxa0 ?hrxa0 ?hqxa0 ?hyxa0 ?hsxa0 ?restxa0
      case hixa0 => exact rfl
      case hfxa0 => kernel_rfl
      case hrxa0 => kernel_rfl
      case hqxa0 => exact fun _ _ _ h => h
      case hsxa0 => assumption
      case hyxa0 =>
        refine Or.inl ⟨by kernel_rfl, ?_⟩
        intro w hSw
        try dsimp only at hSw
        go_simp
        try with_reducible rfl
      try simp only [Act.put, List.setIfInBounds_toArray, List.set_cons_zero, List.set_cons_succ]
      refine' wpAnyH_take (i := 1) (oi := { dst := some 39, op := _, type := _, pos := _, after := _, guard := _ }) (v := _) ?hixa1 (by kernel_rfl) ?hfxa1 ?hrxa1 ?hqxa1 ?hyxa1 ?hsxa1 ?restxa1
      case hixa1 => exact rfl
      case hfxa1 => kernel_rfl
      case hrxa1 => kernel_rfl
      case hqxa1 => exact fun _ _ _ h => h
      case hsxa1 => assumption
      case hyxa1 =>
        refine Or.inl ⟨by kernel_rfl, ?_⟩
        intro w hSw
        try dsimp only at hSw
        go_simp
        try with_reducible rfl
      try simp only [Act.put, List.setIfInBounds_toArray, List.set_cons_zero, List.set_cons_succ]
      refine' wpAnyH_take (i := 2) (oi := { dst := some 40, op := _, type := _, pos := _, after := _, guard := _ }) (v := _) ?hixa2 (by kernel_rfl) ?hfxa2 ?hrxa2 ?hqxa2 ?hyxa2 ?hsxa2 ?restxa2
      case hixa2 => exact rfl
      case hfxa2 => kernel_rfl
      case hrxa2 => kernel_rfl
      case hqxa2 => exact fun _ _ _ h => h
      case hsxa2 => assumption
      case hyxa2 =>
        refine Or.inl ⟨by kernel_rfl, ?_⟩
        intro w hSw
        try dsimp only at hSw
        go_simp
        try with_reducible rfl
      try simp only [Act.put, List.setIfInBounds_toArray, List.set_cons_zero, List.set_cons_succ]
      refine' wpAnyH_take (i := 4) (oi := { dst := some 42, op := _, type := _, pos := _, after := _, guard := _ }) (v := _) ?hixa4 (by kernel_rfl) ?hfxa4 ?hrxa4 ?hqxa4 ?hyxa4 ?hsxa4 ?restxa4
      case hixa4 => exact rfl
      case hfxa4 => kernel_rfl
      case hrxa4 => kernel_rfl
      case hqxa4 => exact fun _ _ _ h => h
      case hsxa4 => assumption
      case hyxa4 =>
        refine Or.inl ⟨by kernel_rfl, ?_⟩
        intro w hSw
        try dsimp only at hSw
        go_simp
        try with_reducible rfl
      try simp only [Act.put, List.setIfInBounds_toArray, List.set_cons_zero, List.set_cons_succ]
      refine' wpAnyH_take (i := 5) (oi := { dst := some 43, op := _, type := _, pos := _, after := _, guard := _ }) (v := _) ?hixa5 (by kernel_rfl) ?hfxa5 ?hrxa5 ?hqxa5 ?hyxa5 ?hsxa5 ?restxa5
      case hixa5 => exact rfl
      case hfxa5 => kernel_rfl
      case hrxa5 => kernel_rfl
      case hqxa5 => exact fun _ _ _ h => h
      case hsxa5 => assumption
      case hyxa5 =>
        refine Or.inl ⟨by kernel_rfl, ?_⟩
        intro w hSw
        try dsimp only at hSw
        go_simp
        try with_reducible rfl
      try simp only [Act.put, List.setIfInBounds_toArray, List.set_cons_zero, List.set_cons_succ]
      refine' wpAnyH_take (i := 6) (oi := { dst := some 44, op := _, type := _, pos := _, after := _, guard := _ }) (v := _) ?hixa6 (by kernel_rfl) ?hfxa6 ?hrxa6 ?hqxa6 ?hyxa6 ?hsxa6 ?restxa6
      case hixa6 => exact rfl
      case hfxa6 => kernel_rfl
      case hrxa6 => kernel_rfl
      case hqxa6 => exact fun _ _ _ h => h
      case hsxa6 => assumption
      case hyxa6 =>
        refine Or.inl ⟨by kernel_rfl, ?_⟩
        intro w hSw
        try dsimp only at hSw
        go_simp
        try with_reducible rfl
      try simp only [Act.put, List.setIfInBounds_toArray, List.set_cons_zero, List.set_cons_succ]
      refine' wpAnyH_take (i := 10) (oi := { dst := some 48, op := _, type := _, pos := _, after := _, guard := _ }) (v := _) ?hixa10 (by kernel_rfl) ?hfxa10 ?hrxa10 ?hqxa10 ?hyxa10 ?hsxa10 ?restxa10
      case hixa10 => exact rfl
      case hfxa10 => kernel_rfl
      case hrxa10 => kernel_rfl
      case hqxa10 => exact fun _ _ _ h => h
      case hsxa10 => assumption
      case hyxa10 =>
        refine Or.inl ⟨by kernel_rfl, ?_⟩
        intro w hSw
        try dsimp only at hSw
        go_simp
        try with_reducible rfl
      try simp only [Act.put, List.setIfInBounds_toArray, List.set_cons_zero, List.set_cons_succ]
      refine wpAnyH_ready (rs := [3]) (by kernel_rfl) (by simp) ?_
      refine' AllReadyH.cons (o := _) ?hixa3 (fun K hK => ?hk0xa3) AllReadyH.nil
      case hixa3 => exact rfl
      go_simp
      go_at_call 87
      refine (hWi.out _).mono ?_
      rintro e wx ⟨rfl, hbx⟩
      have hC' := hC.trans hbx
      clear hC hbx
      have hC := hC'
      clear hC'
      try go_wp2_with fail
      refine hK.out _ _ ?hS0xa3 (fun hHeld => ?restxa3)
      case hS0xa3 => (try dsimp only); try go_keep
      clear hK K
      try simp only [Act.put, List.setIfInBounds_toArray, List.set_cons_zero, List.set_cons_succ]
      refine' wpAnyH_take (i := 7) (oi := { dst := some 45, op := _, type := _, pos := _, after := _, guard := _ }) (v := _) ?hixa7 (by kernel_rfl) ?hfxa7 ?hrxa7 ?hqxa7 ?hyxa7 ?hsxa7 ?restxa7
      case hixa7 => exact rfl
      case hfxa7 => kernel_rfl
      case hrxa7 => kernel_rfl
      case hqxa7 => exact fun _ _ _ h => h
      case hsxa7 => assumption
      case hyxa7 =>
        refine Or.inl ⟨by kernel_rfl, ?_⟩
        intro w hSw
        try dsimp only at hSw
        go_simp
        try with_reducible rfl
      try simp only [Act.put, List.setIfInBounds_toArray, List.set_cons_zero, List.set_cons_succ]
      refine wpAnyH_ready (rs := [8]) (by kernel_rfl) (by simp) ?_
      refine' AllReadyH.cons (o := _) ?hixa8 (fun K hK => ?hk0xa8) AllReadyH.nil
      case hixa8 => exact rfl
      go_simp
      go_at_call 88
      refine (hOi.out _).mono ?_
      rintro e wx ⟨rfl, hbx⟩
      have hC' := hC.trans hbx
      clear hC hbx
      have hC := hC'
      clear hC'
      try go_wp2_with fail
      refine hK.out _ _ ?hS0xa8 (fun hHeld => ?restxa8)
      case hS0xa8 => (try dsimp only); try go_keep
      clear hK K
      try simp only [Act.put, List.setIfInBounds_toArray, List.set_cons_zero, List.set_cons_succ]
      refine' wpAnyH_take (i := 9) (oi := { dst := some 47, op := _, type := _, pos := _, after := _, guard := _ }) (v := _) ?hixa9 (by kernel_rfl) ?hfxa9 ?hrxa9 ?hqxa9 ?hyxa9 ?hsxa9 ?restxa9
      case hixa9 => exact rfl
      case hfxa9 => kernel_rfl
      case hrxa9 => kernel_rfl
      case hqxa9 => exact fun _ _ _ h => h
      case hsxa9 => assumption
      case hyxa9 =>
        refine Or.inl ⟨by kernel_rfl, ?_⟩
        intro w hSw
        try dsimp only at hSw
        go_simp
        try with_reducible rfl
      try simp only [Act.put, List.setIfInBounds_toArray, List.set_cons_zero, List.set_cons_succ]
      refine' wpAnyH_take (i := 11) (oi := { dst := some 2, op := _, type := _, pos := _, after := _, guard := _ }) (v := _) ?hixa11 (by kernel_rfl) ?hfxa11 ?hrxa11 ?hqxa11 ?hyxa11 ?hsxa11 ?restxa11
      case hixa11 => exact rfl
      case hfxa11 => kernel_rfl
      case hrxa11 => kernel_rfl
      case hqxa11 => exact fun _ _ _ h => h
      case hsxa11 => assumption
      case hyxa11 =>
        refine Or.inl ⟨by kernel_rfl, ?_⟩
        intro w hSw
        try dsimp only at hSw
        go_simp
        try with_reducible rfl
      try simp only [Act.put, List.setIfInBounds_toArray, List.set_cons_zero, List.set_cons_succ]
      refine' wpAnyH_take (i := 12) (oi := { dst := some 3, op := _, type := _, pos := _, after := _, guard := _ }) (v := _) ?hixa12 (by kernel_rfl) ?hfxa12 ?hrxa12 ?hqxa12 ?hyxa12 ?hsxa12 ?restxa12
      case hixa12 => exact rfl
      case hfxa12 => kernel_rfl
      case hrxa12 => kernel_rfl
      case hqxa12 => exact fun _ _ _ h => h
      case hsxa12 => assumption
      case hyxa12 =>
        refine Or.inl ⟨by kernel_rfl, ?_⟩
        intro w hSw
        try dsimp only at hSw
        go_simp
        try with_reducible rfl
      try simp only [Act.put, List.setIfInBounds_toArray, List.set_cons_zero, List.set_cons_succ]
      refine wpAnyH_done (by kernel_rfl) ?_ _
      go_wp2
      go_ret2
      have hf : IntKind.i64.wrap ((v : Int) + (p : Int)) = (f : Int) := by rw [IntWalk.i64_in _ (by omega), HRW2.out]; omega
      exact ⟨by show Ending.returned (.tuple #[.int .i64 (IntKind.i64.wrap ((v : Int) + (p : Int))), .bool b]) = _; rw [hf], hC⟩

set_option maxRecDepth 100000 in
set_option maxHeartbeats 1000000 in
theorem place_at (k : Int) (w : World) (hT : Tab7 w) :
    Calls Tryz.prog 48 #[.int .i64 k] w fun e w' => e = .returned (.tuple #[.int .i32 (kthZ true k), .bool (decide (0 ≤ k ∧ k < 2350))]) ∧ Ext w w' := by
  by_cases h2 : 0 ≤ k ∧ k < 2350
  · obtain ⟨n, rfl⟩ := Int.eq_ofNat_of_zero_le h2.1
    rw [decide_eq_true h2]
    have HN := Lib.hid (fun w hT => nth_at n true w hT (by rw [rows_many]; omega))
    generalize kthZ true (n : Int) = r at HN
    have HT := Lib.hid hT
    have h3 : (n : Int) < 2350 := h2.2
    clear h2 hT
    go_enter Tryz.func48, Tryz.ntmps48
    go_wp2_with (go_at_call 69; refine (HN.out _ HT.out).mono ?_; rintro e w1 ⟨rfl, hb1⟩)
    go_ret2
    exact ⟨rfl, hb1⟩
  · rw [decide_eq_false h2]
    have hk : kthZ true k = 0 := by
      by_cases h : k < 0
      · exact kthZ_neg h
      · obtain ⟨n, rfl⟩ := Int.eq_ofNat_of_zero_le (show 0 ≤ k by omega)
        exact kthZ_none (kthM_none true n (by rw [rows_many]; omega))
    rw [hk]
    have h3 : k < 0 ∨ (¬ k < 0 ∧ 2350 ≤ k) := by omega
    clear hT h2
    rcases h3 with h3 | ⟨h3, h4⟩
    all_goals
      go_enter Tryz.func48, Tryz.ntmps48
      go_wp2
      go_ret2
      exact ⟨rfl, Ext.refl _⟩
set_option maxRecDepth 100000 in
set_option maxHeartbeats 1000000 in
theorem extra_at (k : Int) (w : World) (hT : Tab7 w) :
    Calls Tryz.prog 46 #[.int .i64 k] w fun e w' => e = .returned (.tuple #[.int .i32 (kthZ false k), .bool (decide (0 ≤ k ∧ k < 8822))]) ∧ Ext w w' := by
  by_cases h2 : 0 ≤ k ∧ k < 8822
  · obtain ⟨n, rfl⟩ := Int.eq_ofNat_of_zero_le h2.1
    rw [decide_eq_true h2]
    have HN := Lib.hid (fun w hT => nth_at n false w hT (by rw [others_many]; omega))
    generalize kthZ false (n : Int) = r at HN
    have HT := Lib.hid hT
    have h3 : (n : Int) < 8822 := h2.2
    clear h2 hT
    go_enter Tryz.func46, Tryz.ntmps46
    go_wp2_with (go_at_call 69; refine (HN.out _ HT.out).mono ?_; rintro e w1 ⟨rfl, hb1⟩)
    go_ret2
    exact ⟨rfl, hb1⟩
  · rw [decide_eq_false h2]
    have hk : kthZ false k = 0 := by
      by_cases h : k < 0
      · exact kthZ_neg h
      · obtain ⟨n, rfl⟩ := Int.eq_ofNat_of_zero_le (show 0 ≤ k by omega)
        exact kthZ_none (kthM_none false n (by rw [others_many]; omega))
    rw [hk]
    have h3 : k < 0 ∨ (¬ k < 0 ∧ 8822 ≤ k) := by omega
    clear hT h2
    rcases h3 with h3 | ⟨h3, h4⟩
    all_goals
      go_enter Tryz.func46, Tryz.ntmps46
      go_wp2
      go_ret2
      exact ⟨rfl, Ext.refl _⟩
set_option maxRecDepth 100000 in
set_option maxHeartbeats 1000000 in
theorem rankof_yes (P : Int) (n : Nat) (w : World) (hT : Tab7 w) (h : n < 11172) (hP : P - 44032 = (n : Int)) :
    Calls Tryz.prog 50 #[.int .i32 P] w fun e w' => e = .returned (.tuple #[.int .i64 (rankM (inM n) n : Nat), .bool (inM n), .bool true]) ∧ Ext w w' := by
  have HR := Lib.hid (fun w hT => rank_at n w hT h)
  have HT := Lib.hid hT
  generalize inM n = b at HR ⊢
  generalize rankM b n = f at HR ⊢
  have h2 : ¬ P < 44032 := by omega
  have h3 : P < 55204 := by omega
  have h4 : ¬ 55204 ≤ P := by omega
  have h5 : (n : Int) < 11172 := by omega
  clear hT h
  go_enter Tryz.func50, Tryz.ntmps50
  go_wp2_with (go_at_call 71; refine (HR.out _ HT.out).mono ?_; rintro e w1 ⟨rfl, hb1⟩)
  refine bodyPost_ret (v := .tuple #[.int .i64 f, .bool b, .bool true]) (by simp [results, Tryz.results50, go_sem]) rfl ?_
  exact ⟨rfl, hb1⟩
set_option maxRecDepth 100000 in
theorem rankof_no (p : Int) (w : World) (h : ¬ (44032 ≤ p ∧ p ≤ 55203)) :
    Calls Tryz.prog 50 #[.int .i32 p] w fun e w' => e = .returned (.tuple #[.int .i64 0, .bool false, .bool false]) ∧ Ext w w' := by
  have h3 : p < 44032 ∨ (¬ p < 44032 ∧ 55204 ≤ p) := by omega
  clear h
  rcases h3 with h3 | ⟨h3, h4⟩
  all_goals
    go_enter Tryz.func50, Tryz.ntmps50
    go_wp2
    refine bodyPost_ret (v := .tuple #[.int .i64 0, .bool false, .bool false]) (by simp [results, Tryz.results50, go_sem]) rfl ?_
    exact ⟨rfl, Ext.refl _⟩
end Go.Proofs.YtmfafdgmggcoiaaGreatDoor
