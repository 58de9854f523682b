/-
  The law SingleWrites holds at every number of a charset and every text: its bytes, in each of the four, or the first place that has none, or isn't made of signs, are the document's; they are decoded as they were.
  Conditions: none beyond the row's own.
-/
import Derived.Test.YtjlghdlbkibneaaDoorSc6
import Derived.ChangeMaps
namespace Go.Proofs.YtjlghdlbkibneaaDoor.singleWrites
open Go Go.Proofs.YtjlghdlbkibneaaDoor Go.ChangeShapes Go.WideShapes Go.ChangeAt Go.RowKit
open Go.ChangeMaps (open_string shut_string)
set_option linter.unusedSimpArgs false
set_option linter.unusedVariables false

theorem own : ownKnob Tryd.prog.godebug = none := by kernel_rfl
theorem text_of (t : ByteArray) (h : badS t < 0) : txt (sgn t) = t := by
  apply bytes_inj
  exact runesL_back t.data.toList.length 0 t.data.toList (Nat.le_refl _) h
theorem sgn_signs5 (t : ByteArray) : allSigns (sgn t) = true := sgn_signs t
set_option maxRecDepth 100000 in
set_option maxHeartbeats 4000000 in
theorem walk_no (c : Int) (t : ByteArray) (W : World) (hT : Tabs W) (h : c < 0 ∨ 3 < c) : Calls Tryd.prog 9 #[.int .i64 c, .string t] W fun e w' => e = .returned (.bool true) ∧ Ext W w' := by
  have hC := KeepT.start hT
  have HNO := Lib.hid h
  have K1 := Lib.hid trivial
  clear hT
  have hcc : c < 0 ∨ (¬ c < 0 ∧ 3 < c) := by omega
  clear h
  rcases hcc with h1 | ⟨h1, h2⟩
  all_goals
    go_enter Tryd.func9, Tryd.ntmps9
    go_wp2_with (first
      | (go_at_call 27; clear K1; refine (of_no _ _ HNO.out).mono ?_; rintro e w1 ⟨rfl, hb⟩; have hC' := (hC.ext hb).three (.slice none 0 0) (.slice none 0 0) (.int .i64 0) 56; clear hC hb ; have hC := hC'; clear hC'; obtain ⟨a0, a1, a2, _⟩ := hC.c)
      | (go_at_call 28; refine (awake5 _ hC.tb).mono ?_; rintro e w2 ⟨rfl, hb⟩; have hC' := hC.ext hb; clear hC hb a0 a1 a2; have hC := hC'; clear hC'; obtain ⟨a0, a1, a2, _⟩ := hC.c))
    go_ret
    exact ⟨rfl, hC.ex⟩
set_option maxRecDepth 100000 in
set_option maxHeartbeats 4000000 in
theorem walk_long (c : Nat) (hc : c ≤ 3) (t : ByteArray) (W : World) (hT : Tabs W) (hs : 300 < t.size) : Calls Tryd.prog 9 #[.int .i64 c, .string t] W fun e w' => e = .returned (.bool true) ∧ Ext W w' := by
  have hC := KeepT.start hT
  have K1 := Lib.hid trivial
  have HO : Hid (∀ w : World, Tabs w → Calls Tryd.prog 27 #[.int .i64 c] w (SetOut w c (tabP c))) := fun w hT => of_yes c w hT hc
  obtain ⟨L, hL⟩ : ∃ L, L = tabP c := ⟨_, rfl⟩
  obtain ⟨n, hn⟩ : ∃ n : Int, n = (c : Int) := ⟨_, rfl⟩
  rw [← hL] at HO
  rw [← hn] at HO
  rw [← hn]
  have n0 : ¬ n < 0 := by omega
  have n1 : ¬ 3 < n := by omega
  have hs2 : (300 : Int) < t.size := by omega
  clear hs
  clear hT hL hn hc
  go_enter Tryd.func9, Tryd.ntmps9
  go_wp2_with (first
    | (go_at_call 27; clear K1; refine (HO.out _ hC.tb).mono ?_; rintro e w1 ⟨va, rfl, ⟨aa, an, ac, ab, am, ad, rfl, ht⟩, hb⟩; have hC' := ((hC.ext hb).tab ht).three (.slice aa an ac) (.slice ab am ad) (.int .i64 n) 56; clear hC hb ht ; have hC := hC'; clear hC'; obtain ⟨a0, a1, a2, _⟩ := hC.c)
    | (go_at_call 28; refine (awake5 _ hC.tb).mono ?_; rintro e w2 ⟨rfl, hb⟩; have hC' := hC.ext hb; clear hC hb a0 a1 a2; have hC := hC'; clear hC'; obtain ⟨a0, a1, a2, _⟩ := hC.c))
  go_ret
  exact ⟨rfl, hC.ex⟩
set_option maxRecDepth 100000 in
set_option maxHeartbeats 4000000 in
theorem walk_bad (c : Nat) (hc : c ≤ 3) (t : ByteArray) (W : World) (hT : Tabs W) (hs : t.size ≤ 300) (p : Int) (hp : badS t = p) (hp0 : ¬ p < 0) : Calls Tryd.prog 9 #[.int .i64 c, .string t] W fun e w' => e = .returned (.bool true) ∧ Ext W w' := by
  have hC := KeepT.start hT
  have K1 := Lib.hid trivial
  have K2 := Lib.hid trivial
  have HO : Hid (∀ w : World, Tabs w → Calls Tryd.prog 27 #[.int .i64 c] w (SetOut w c (tabP c))) := fun w hT => of_yes c w hT hc
  have HE : Hid (∀ (v : Value) (w : World), Tabs w → IsSet w v c (tabP c) → Calls Tryd.prog 31 #[v, .string t] w fun e w' => e = .returned (.tuple #[.string ⟨#[]⟩, .agg #[.int .i64 2, .int .i64 p]]) ∧ Ext w w') := fun v w hT h => set_encode_bad v c (tabP c) t p w hT h (by omega) hp hp0
  have HP : Hid (∀ w : World, Calls Tryd.prog 33 #[.string t] w fun e w' => e = .returned (.tuple #[.slice none 0 0, .int .i64 p]) ∧ Ext w w') := fun w => by
    have := rpoints_bad t w (by omega) (by rw [hp]; exact hp0)
    rwa [hp] at this
  obtain ⟨L, hL⟩ : ∃ L, L = tabP c := ⟨_, rfl⟩
  obtain ⟨n, hn⟩ : ∃ n : Int, n = (c : Int) := ⟨_, rfl⟩
  rw [← hL] at HO HE
  rw [← hn] at HO HE
  rw [← hn]
  have n0 : ¬ n < 0 := by omega
  have n1 : ¬ 3 < n := by omega
  have hs2 : ¬ (300 : Int) < t.size := by omega
  have hp1 : 0 ≤ p := by omega
  have HP1 := Lib.hid hp0
  clear hT hL hn hc hs hp hp0
  go_enter Tryd.func9, Tryd.ntmps9
  go_wp2_with (first
    | (go_at_call 27; clear K1; refine (HO.out _ hC.tb).mono ?_; rintro e w1 ⟨va, rfl, ⟨aa, an, ac, ab, am, ad, rfl, ht⟩, hb⟩; have hC' := ((hC.ext hb).tab ht).three (.slice aa an ac) (.slice ab am ad) (.int .i64 n) 56; clear hC hb ht ; have hC := hC'; clear hC'; obtain ⟨a0, a1, a2, _⟩ := hC.c)
    | (go_at_call 31; clear K2; refine (HE.out _ _ hC.tb (setOf n hC.t.1)).mono ?_; rintro e w2 ⟨rfl, hb⟩; have hC' := (hC.ext hb).two (.int .i64 2) (.int .i64 p) 30; clear hC hb a0 a1 a2; have hC := hC'; clear hC'; obtain ⟨f0, f1, a0, a1, a2, _⟩ := hC.c)
    | (go_at_call 33; refine (HP.out _).mono ?_; rintro e w3 ⟨rfl, hb⟩; have hC' := hC.ext hb; clear hC hb f0 f1 a0 a1 a2; have hC := hC'; clear hC'; obtain ⟨f0, f1, a0, a1, a2, _⟩ := hC.c))
  have hC' := hC.ext (Ext.drew (Ext.refl _))
  clear hC f0 f1 a0 a1 a2
  have hC := hC'
  clear hC'
  obtain ⟨f0, f1, a0, a1, a2, _⟩ := hC.c
  refine wp_region_held_drew (S := (fun W' => W'.cell? ⟨w2.heap.size, 0, none⟩ = some (.int .i64 2) ∧ W'.cell? ⟨w2.heap.size, 1, none⟩ = some (.int .i64 p))) (by kernel_rfl) ?_ (fun hHeld => ?_)
  · (try dsimp only); go_keep
  refine wpAnyH_ready (rs := [0]) (by kernel_rfl) (by simp) ?_
  refine' AllReadyH.cons (o := _) ?hixa0 (fun K hK => ?hk0xa0) AllReadyH.nil
  case hixa0 => exact rfl
  go_simp
  go_at_call 28
  refine (awake5 _ hC.tb).mono ?_
  rintro e wx ⟨rfl, hbx⟩
  have hC' := hC.ext hbx
  clear hC hbx
  have hC := hC'
  clear hC'
  clear f0 f1 a0 a1 a2
  obtain ⟨f0, f1, a0, a1, a2, _⟩ := hC.c
  try go_wp2_with fail
  refine hK.out _ _ ?hS0xa0 (fun hHeld => ?restxa0)
  case hS0xa0 => (try dsimp only); go_keep
  clear hK K
  try simp only [Act.put, List.setIfInBounds_toArray, List.set_cons_zero, List.set_cons_succ]
  refine' wpAnyH_take (i := 1) (oi := { dst := some 46, op := _, type := _, pos := _, after := _, guard := _ }) (v := _) ?hixa1 (by kernel_rfl) ?hfxa1 ?hrxa1 ?hqxa1 ?hyxa1 ?hsxa1 ?restxa1
  case hixa1 => exact rfl
  case hfxa1 => kernel_rfl
  case hrxa1 => kernel_rfl
  case hqxa1 => exact fun _ _ _ h => h
  case hsxa1 => assumption
  case hyxa1 =>
    refine Or.inl ⟨by kernel_rfl, ?_⟩
    intro w hSw
    try dsimp only at hSw
    go_simp
    try with_reducible rfl
  try simp only [Act.put, List.setIfInBounds_toArray, List.set_cons_zero, List.set_cons_succ]
  refine' wpAnyH_take (i := 2) (oi := { dst := some 47, op := _, type := _, pos := _, after := _, guard := _ }) (v := _) ?hixa2 (by kernel_rfl) ?hfxa2 ?hrxa2 ?hqxa2 ?hyxa2 ?hsxa2 ?restxa2
  case hixa2 => exact rfl
  case hfxa2 => kernel_rfl
  case hrxa2 => kernel_rfl
  case hqxa2 => exact fun _ _ _ h => h
  case hsxa2 => assumption
  case hyxa2 =>
    refine Or.inl ⟨by kernel_rfl, ?_⟩
    intro w hSw
    try dsimp only at hSw
    go_simp
    try with_reducible rfl
  try simp only [Act.put, List.setIfInBounds_toArray, List.set_cons_zero, List.set_cons_succ]
  refine' wpAnyH_take (i := 3) (oi := { dst := some 48, op := _, type := _, pos := _, after := _, guard := _ }) (v := _) ?hixa3 (by kernel_rfl) ?hfxa3 ?hrxa3 ?hqxa3 ?hyxa3 ?hsxa3 ?restxa3
  case hixa3 => exact rfl
  case hfxa3 => kernel_rfl
  case hrxa3 => kernel_rfl
  case hqxa3 => exact fun _ _ _ h => h
  case hsxa3 => assumption
  case hyxa3 =>
    refine Or.inl ⟨by kernel_rfl, ?_⟩
    intro w hSw
    try dsimp only at hSw
    go_simp
    try with_reducible rfl
  try simp only [Act.put, List.setIfInBounds_toArray, List.set_cons_zero, List.set_cons_succ]
  refine' wpAnyH_take (i := 4) (oi := { dst := some 49, op := _, type := _, pos := _, after := _, guard := _ }) (v := _) ?hixa4 (by kernel_rfl) ?hfxa4 ?hrxa4 ?hqxa4 ?hyxa4 ?hsxa4 ?restxa4
  case hixa4 => exact rfl
  case hfxa4 => kernel_rfl
  case hrxa4 => kernel_rfl
  case hqxa4 => exact fun _ _ _ h => h
  case hsxa4 => assumption
  case hyxa4 =>
    refine Or.inl ⟨by kernel_rfl, ?_⟩
    intro w hSw
    try dsimp only at hSw
    go_simp
    try with_reducible rfl
  try simp only [Act.put, List.setIfInBounds_toArray, List.set_cons_zero, List.set_cons_succ]
  refine' wpAnyH_take (i := 5) (oi := { dst := some 50, op := _, type := _, pos := _, after := _, guard := _ }) (v := _) ?hixa5 (by kernel_rfl) ?hfxa5 ?hrxa5 ?hqxa5 ?hyxa5 ?hsxa5 ?restxa5
  case hixa5 => exact rfl
  case hfxa5 => kernel_rfl
  case hrxa5 => kernel_rfl
  case hqxa5 => exact fun _ _ _ h => h
  case hsxa5 => assumption
  case hyxa5 =>
    refine Or.inl ⟨by kernel_rfl, ?_⟩
    intro w hSw
    try dsimp only at hSw
    go_simp
    try with_reducible rfl
  try simp only [Act.put, List.setIfInBounds_toArray, List.set_cons_zero, List.set_cons_succ]
  refine' wpAnyH_take (i := 6) (oi := { dst := some 51, op := _, type := _, pos := _, after := _, guard := _ }) (v := _) ?hixa6 (by kernel_rfl) ?hfxa6 ?hrxa6 ?hqxa6 ?hyxa6 ?hsxa6 ?restxa6
  case hixa6 => exact rfl
  case hfxa6 => kernel_rfl
  case hrxa6 => kernel_rfl
  case hqxa6 => exact fun _ _ _ h => h
  case hsxa6 => assumption
  case hyxa6 =>
    refine Or.inl ⟨by kernel_rfl, ?_⟩
    intro w hSw
    try dsimp only at hSw
    go_simp
    try with_reducible rfl
  try simp only [Act.put, List.setIfInBounds_toArray, List.set_cons_zero, List.set_cons_succ]
  refine' wpAnyH_take (i := 7) (oi := { dst := some 52, op := _, type := _, pos := _, after := _, guard := _ }) (v := _) ?hixa7 (by kernel_rfl) ?hfxa7 ?hrxa7 ?hqxa7 ?hyxa7 ?hsxa7 ?restxa7
  case hixa7 => exact rfl
  case hfxa7 => kernel_rfl
  case hrxa7 => kernel_rfl
  case hqxa7 => exact fun _ _ _ h => h
  case hsxa7 => assumption
  case hyxa7 =>
    refine Or.inl ⟨by kernel_rfl, ?_⟩
    intro w hSw
    try dsimp only at hSw
    go_simp
    try with_reducible rfl
  try simp only [Act.put, List.setIfInBounds_toArray, List.set_cons_zero, List.set_cons_succ]
  refine' wpAnyH_take (i := 8) (oi := { dst := some 53, op := _, type := _, pos := _, after := _, guard := _ }) (v := _) ?hixa8 (by kernel_rfl) ?hfxa8 ?hrxa8 ?hqxa8 ?hyxa8 ?hsxa8 ?restxa8
  case hixa8 => exact rfl
  case hfxa8 => kernel_rfl
  case hrxa8 => kernel_rfl
  case hqxa8 => exact fun _ _ _ h => h
  case hsxa8 => assumption
  case hyxa8 =>
    refine Or.inl ⟨by kernel_rfl, ?_⟩
    intro w hSw
    try dsimp only at hSw
    go_simp
    try with_reducible rfl
  try simp only [Act.put, List.setIfInBounds_toArray, List.set_cons_zero, List.set_cons_succ]
  refine' wpAnyH_take (i := 9) (oi := { dst := some 54, op := _, type := _, pos := _, after := _, guard := _ }) (v := _) ?hixa9 (by kernel_rfl) ?hfxa9 ?hrxa9 ?hqxa9 ?hyxa9 ?hsxa9 ?restxa9
  case hixa9 => exact rfl
  case hfxa9 => kernel_rfl
  case hrxa9 => kernel_rfl
  case hqxa9 => exact fun _ _ _ h => h
  case hsxa9 => assumption
  case hyxa9 =>
    refine Or.inl ⟨by kernel_rfl, ?_⟩
    intro w hSw
    try dsimp only at hSw
    go_simp
    try with_reducible rfl
  try simp only [Act.put, List.setIfInBounds_toArray, List.set_cons_zero, List.set_cons_succ]
  refine' wpAnyH_take (i := 10) (oi := { dst := some 55, op := _, type := _, pos := _, after := _, guard := _ }) (v := _) ?hixa10 (by kernel_rfl) ?hfxa10 ?hrxa10 ?hqxa10 ?hyxa10 ?hsxa10 ?restxa10
  case hixa10 => exact rfl
  case hfxa10 => kernel_rfl
  case hrxa10 => kernel_rfl
  case hqxa10 => exact fun _ _ _ h => h
  case hsxa10 => assumption
  case hyxa10 =>
    refine Or.inl ⟨by kernel_rfl, ?_⟩
    intro w hSw
    try dsimp only at hSw
    go_simp
    try with_reducible rfl
  try simp only [Act.put, List.setIfInBounds_toArray, List.set_cons_zero, List.set_cons_succ]
  refine wpAnyH_ready (rs := [11]) (by kernel_rfl) (by simp) ?_
  refine' AllReadyH.cons (o := _) ?hixa11 (fun K hK => ?hk0xa11) AllReadyH.nil
  case hixa11 => exact rfl
  go_simp
  go_at_call 34
  refine (lawfault_yes p (by have := HP1.out; omega) _).mono ?_
  rintro e wx ⟨rfl, hbx⟩
  have hC' := hC.ext hbx
  clear hC hbx
  have hC := hC'
  clear hC'
  clear f0 f1 a0 a1 a2
  obtain ⟨f0, f1, a0, a1, a2, _⟩ := hC.c
  try go_wp2_with fail
  refine hK.out _ _ ?hS0xa11 (fun hHeld => ?restxa11)
  case hS0xa11 => (try dsimp only); go_keep
  clear hK K
  try simp only [Act.put, List.setIfInBounds_toArray, List.set_cons_zero, List.set_cons_succ]
  refine' wpAnyH_take (i := 12) (oi := { dst := some 57, op := _, type := _, pos := _, after := _, guard := _ }) (v := _) ?hixa12 (by kernel_rfl) ?hfxa12 ?hrxa12 ?hqxa12 ?hyxa12 ?hsxa12 ?restxa12
  case hixa12 => exact rfl
  case hfxa12 => kernel_rfl
  case hrxa12 => kernel_rfl
  case hqxa12 => exact fun _ _ _ h => h
  case hsxa12 => assumption
  case hyxa12 =>
    refine Or.inl ⟨by kernel_rfl, ?_⟩
    intro w hSw
    try dsimp only at hSw
    go_simp
    try with_reducible rfl
  try simp only [Act.put, List.setIfInBounds_toArray, List.set_cons_zero, List.set_cons_succ]
  refine' wpAnyH_take (i := 13) (oi := { dst := some 58, op := _, type := _, pos := _, after := _, guard := _ }) (v := _) ?hixa13 (by kernel_rfl) ?hfxa13 ?hrxa13 ?hqxa13 ?hyxa13 ?hsxa13 ?restxa13
  case hixa13 => exact rfl
  case hfxa13 => kernel_rfl
  case hrxa13 => kernel_rfl
  case hqxa13 => exact fun _ _ _ h => h
  case hsxa13 => assumption
  case hyxa13 =>
    refine Or.inl ⟨by kernel_rfl, ?_⟩
    intro w hSw
    try dsimp only at hSw
    go_simp
    try with_reducible rfl
  try simp only [Act.put, List.setIfInBounds_toArray, List.set_cons_zero, List.set_cons_succ]
  refine' wpAnyH_take (i := 14) (oi := { dst := some 4, op := _, type := _, pos := _, after := _, guard := _ }) (v := _) ?hixa14 (by kernel_rfl) ?hfxa14 ?hrxa14 ?hqxa14 ?hyxa14 ?hsxa14 ?restxa14
  case hixa14 => exact rfl
  case hfxa14 => kernel_rfl
  case hrxa14 => kernel_rfl
  case hqxa14 => exact fun _ _ _ h => h
  case hsxa14 => assumption
  case hyxa14 =>
    refine Or.inl ⟨by kernel_rfl, ?_⟩
    intro w hSw
    try dsimp only at hSw
    go_simp
    try with_reducible rfl
  try simp only [Act.put, List.setIfInBounds_toArray, List.set_cons_zero, List.set_cons_succ]
  refine wpAnyH_done (by kernel_rfl) ?_ _
  go_wp2
  go_ret
  exact ⟨by simp, hC.ex⟩
set_option maxRecDepth 100000 in
set_option maxHeartbeats 4000000 in
theorem walk_at (c : Nat) (hc : c ≤ 3) (t : ByteArray) (W : World) (hT : Tabs W) (hs : t.size ≤ 300) (hb : badS t < 0) (p : Int) (hp : badZ c 0 (sgn t) = p) (hp0 : ¬ p < 0) : Calls Tryd.prog 9 #[.int .i64 c, .string t] W fun e w' => e = .returned (.bool true) ∧ Ext W w' := by
  have hC := KeepT.start hT
  have K1 := Lib.hid trivial
  have K2 := Lib.hid trivial
  have HO : Hid (∀ w : World, Tabs w → Calls Tryd.prog 27 #[.int .i64 c] w (SetOut w c (tabP c))) := fun w hT => of_yes c w hT hc
  have hzl : (sgn t).length ≤ 300 := Nat.le_trans (sgn_len t) hs
  have hsg := sgn_signs5 t
  have htt := text_of t hb
  have HE : Hid (∀ (v : Value) (w : World), Tabs w → IsSet w v c (tabP c) → Calls Tryd.prog 31 #[v, .string t] w fun e w' => e = .returned (.tuple #[.string ⟨#[]⟩, .agg #[.int .i64 6, .int .i64 p]]) ∧ Ext w w') := fun v w hT h => by
    have h2 := enc_no v c hc (sgn t) p w hT h hsg (by omega) hp hp0
    rwa [htt] at h2
  have HP : Hid (∀ w : World, Calls Tryd.prog 33 #[.string t] w fun e w' => ∃ a cap, e = .returned (.tuple #[.slice a (sgn t).length cap, .int .i64 (-1)]) ∧ IsRow w' a (sgn t).length cap (sgn t) ∧ Ext w w') := fun w => rpoints_ok t w (by omega) hb
  have HQ : Hid (∀ (a : Option Addr) (cap : Nat) (w : World), IsRow w a (sgn t).length cap (sgn t) → Calls Tryd.prog 35 #[.int .i64 c, .slice a (sgn t).length cap] w fun e w' => e = .returned (.tuple #[.string ⟨#[]⟩, .int .i64 p]) ∧ Ext w w') := fun a cap w h => renc5 c a cap (sgn t) w h (by omega) (by omega) (by omega) hsg _ _ hp (by rw [if_neg hp0])
  obtain ⟨L, hL⟩ : ∃ L, L = tabP c := ⟨_, rfl⟩
  obtain ⟨n, hn⟩ : ∃ n : Int, n = (c : Int) := ⟨_, rfl⟩
  rw [← hL] at HO HE
  rw [← hn] at HO HE HQ
  rw [← hn]
  have n0 : ¬ n < 0 := by omega
  have n1 : ¬ 3 < n := by omega
  have hs2 : ¬ (300 : Int) < t.size := by omega
  have hp1 : 0 ≤ p := by omega
  generalize sgn t = zs at HP HQ
  clear hT hL hn hc hs hb hsg htt hzl hp hp0
  go_enter Tryd.func9, Tryd.ntmps9
  go_wp2_with (first
    | (go_at_call 27; clear K1; refine (HO.out _ hC.tb).mono ?_; rintro e w1 ⟨va, rfl, ⟨aa, an, ac, ab, am, ad, rfl, ht⟩, hb⟩; have hC' := ((hC.ext hb).tab ht).three (.slice aa an ac) (.slice ab am ad) (.int .i64 n) 56; clear hC hb ht ; have hC := hC'; clear hC'; obtain ⟨a0, a1, a2, _⟩ := hC.c)
    | (go_at_call 31; clear K2; refine (HE.out _ _ hC.tb (setOf n hC.t.1)).mono ?_; rintro e w2 ⟨rfl, hb⟩; have hC' := (hC.ext hb).two (.int .i64 6) (.int .i64 p) 30; clear hC hb a0 a1 a2; have hC := hC'; clear hC'; obtain ⟨f0, f1, a0, a1, a2, _⟩ := hC.c)
    | (go_at_call 33; refine (HP.out _).mono ?_; rintro e w3 ⟨pa, pc, rfl, hr, hb⟩; have hC' := hC.ext hb; clear hC hb f0 f1 a0 a1 a2; have hC := hC'; clear hC'; obtain ⟨f0, f1, a0, a1, a2, _⟩ := hC.c)
    | (go_at_call 35; refine (HQ.out _ _ _ hr).mono ?_; rintro e w4 ⟨rfl, hb⟩; have hC' := hC.ext hb; clear hr; clear hC hb f0 f1 a0 a1 a2; have hC := hC'; clear hC'; obtain ⟨f0, f1, a0, a1, a2, _⟩ := hC.c)
    | (go_at_call 28; refine (awake5 _ hC.tb).mono ?_; rintro e w5 ⟨rfl, hb⟩; have hC' := hC.ext hb; clear hC hb f0 f1 a0 a1 a2; have hC := hC'; clear hC'; obtain ⟨f0, f1, a0, a1, a2, _⟩ := hC.c))
  go_ret
  exact ⟨by simp, hC.ex⟩
set_option maxRecDepth 100000 in
set_option maxHeartbeats 4000000 in
theorem walk_ok (c : Nat) (hc : c ≤ 3) (t : ByteArray) (W : World) (hT : Tabs W) (hs : t.size ≤ 300) (hb : badS t < 0) (hp : badZ c 0 (sgn t) < 0) : Calls Tryd.prog 9 #[.int .i64 c, .string t] W fun e w' => e = .returned (.bool true) ∧ Ext W w' := by
  have hC := KeepT.start hT
  have K1 := Lib.hid trivial
  have K2 := Lib.hid trivial
  have K5 := Lib.hid trivial
  have HO : Hid (∀ w : World, Tabs w → Calls Tryd.prog 27 #[.int .i64 c] w (SetOut w c (tabP c))) := fun w hT => of_yes c w hT hc
  have hzl : (sgn t).length ≤ 300 := Nat.le_trans (sgn_len t) hs
  have hsg := sgn_signs5 t
  have htt := text_of t hb
  have hm : badZ c 0 (sgn t) = -1 := by have := badZ_bd c (sgn t) 0; omega
  have HE : Hid (∀ (v : Value) (w : World), Tabs w → IsSet w v c (tabP c) → Calls Tryd.prog 31 #[v, .string t] w fun e w' => e = .returned (.tuple #[.string ⟨(encZ c (sgn t)).toArray⟩, .agg #[.int .i64 0, .int .i64 0]]) ∧ Ext w w') := fun v w hT h => by
    have h2 := enc_yes v c hc (sgn t) w hT h hsg (by omega) hp
    rwa [htt] at h2
  have HP : Hid (∀ w : World, Calls Tryd.prog 33 #[.string t] w fun e w' => ∃ a cap, e = .returned (.tuple #[.slice a (sgn t).length cap, .int .i64 (-1)]) ∧ IsRow w' a (sgn t).length cap (sgn t) ∧ Ext w w') := fun w => rpoints_ok t w (by omega) hb
  have HQ : Hid (∀ (a : Option Addr) (cap : Nat) (w : World), IsRow w a (sgn t).length cap (sgn t) → Calls Tryd.prog 35 #[.int .i64 c, .slice a (sgn t).length cap] w fun e w' => e = .returned (.tuple #[.string ⟨(encZ c (sgn t)).toArray⟩, .int .i64 (-1)]) ∧ Ext w w') := fun a cap w h => renc5 c a cap (sgn t) w h (by omega) (by omega) (by omega) hsg _ _ hm (by rw [if_pos (by decide)])
  have HD : Hid (∀ (v : Value) (w : World), IsSet w v c (tabP c) → Calls Tryd.prog 30 #[v, .string ⟨(encZ c (sgn t)).toArray⟩] w fun e w' => e = .returned (.tuple #[.string t, .agg #[.int .i64 0, .int .i64 0]]) ∧ Ext w w') := fun v w h => by
    have hl : (encZ c (sgn t)).length ≤ 300 := by unfold encZ; rw [List.length_map]; exact hzl
    have h2 := set_decode v c ⟨(encZ c (sgn t)).toArray⟩ w h hc (by show (encZ c (sgn t)).length ≤ 100000; omega)
    have e : decZ c (⟨(encZ c (sgn t)).toArray⟩ : ByteArray).data.toList = sgn t := dec_enc5 c (sgn t) 0 hp
    rwa [e, htt] at h2
  obtain ⟨L, hL⟩ : ∃ L, L = tabP c := ⟨_, rfl⟩
  obtain ⟨n, hn⟩ : ∃ n : Int, n = (c : Int) := ⟨_, rfl⟩
  rw [← hL] at HO HE HD
  rw [← hn] at HO HE HQ HD
  rw [← hn]
  have n0 : ¬ n < 0 := by omega
  have n1 : ¬ 3 < n := by omega
  have hs2 : ¬ (300 : Int) < t.size := by omega
  generalize (⟨(encZ n (sgn t)).toArray⟩ : ByteArray) = u at HE HQ HD
  generalize sgn t = zs at HP HQ
  clear hT hL hn hc hs hb hsg htt hzl hp hm
  go_enter Tryd.func9, Tryd.ntmps9
  go_wp2_with (first
    | (go_at_call 27; clear K1; refine (HO.out _ hC.tb).mono ?_; rintro e w1 ⟨va, rfl, ⟨aa, an, ac, ab, am, ad, rfl, ht⟩, hb⟩; have hC' := ((hC.ext hb).tab ht).three (.slice aa an ac) (.slice ab am ad) (.int .i64 n) 56; clear hC hb ht ; have hC := hC'; clear hC'; obtain ⟨a0, a1, a2, _⟩ := hC.c)
    | (go_at_call 31; clear K2; refine (HE.out _ _ hC.tb (setOf n hC.t.1)).mono ?_; rintro e w2 ⟨rfl, hb⟩; have hC' := (hC.ext hb).two (.int .i64 0) (.int .i64 0) 30; clear hC hb a0 a1 a2; have hC := hC'; clear hC'; obtain ⟨f0, f1, a0, a1, a2, _⟩ := hC.c)
    | (go_at_call 33; refine (HP.out _).mono ?_; rintro e w3 ⟨pa, pc, rfl, hr, hb⟩; have hC' := hC.ext hb; clear hC hb f0 f1 a0 a1 a2; have hC := hC'; clear hC'; obtain ⟨f0, f1, a0, a1, a2, _⟩ := hC.c)
    | (go_at_call 35; refine (HQ.out _ _ _ hr).mono ?_; rintro e w4 ⟨rfl, hb⟩; have hC' := hC.ext hb; clear hr; clear hC hb f0 f1 a0 a1 a2; have hC := hC'; clear hC'; obtain ⟨f0, f1, a0, a1, a2, _⟩ := hC.c)
    | (go_at_call 30; clear K5; refine (HD.out _ _ (setOf n hC.t.1)).mono ?_; rintro e w5 ⟨rfl, hb⟩; have hC' := (hC.ext hb).two (.int .i64 0) (.int .i64 0) 30; clear hC hb f0 f1 a0 a1 a2; have hC := hC'; clear hC'; obtain ⟨g0, g1, f0, f1, a0, a1, a2, _⟩ := hC.c)
    | (go_at_call 17; refine (bad_no _ _ _ (by decide)).mono ?_; rintro e w6 ⟨rfl, hb⟩; have hC' := hC.ext hb; clear hC hb g0 g1 f0 f1 a0 a1 a2; have hC := hC'; clear hC'; obtain ⟨g0, g1, f0, f1, a0, a1, a2, _⟩ := hC.c)
    | (go_at_call 28; refine (awake5 _ hC.tb).mono ?_; rintro e w7 ⟨rfl, hb⟩; have hC' := hC.ext hb; clear hC hb g0 g1 f0 f1 a0 a1 a2; have hC := hC'; clear hC'; obtain ⟨g0, g1, f0, f1, a0, a1, a2, _⟩ := hC.c))
  go_ret
  exact ⟨by simp, hC.ex⟩
theorem walk (c : Int) (t : ByteArray) (W : World) (hT : Tabs W) : Calls Tryd.prog 9 #[.int .i64 c, .string t] W fun e w' => e = .returned (.bool true) ∧ Ext W w' := by
  by_cases h : c < 0 ∨ 3 < c
  · exact walk_no c t W hT h
  · obtain ⟨k, rfl⟩ := Int.eq_ofNat_of_zero_le (show 0 ≤ c by omega)
    by_cases hs : t.size ≤ 300
    · by_cases hb : badS t < 0
      · by_cases hp : badZ k 0 (sgn t) < 0
        · exact walk_ok k (by omega) t W hT hs hb hp
        · exact walk_at k (by omega) t W hT hs hb _ rfl hp
      · exact walk_bad k (by omega) t W hT hs _ rfl hb
    · exact walk_long k (by omega) t W hT (by omega)
set_option maxRecDepth 100000 in
theorem lifted (os : Os) (started : os.Started) (H : Type) (enc : TypeId × Value → H) :
    ReturnsInHanded {} Tryd.checked os 9 .any (fun w args => (Rows.singleWritesSpec.pre enc Tryd.prog Tryd.f9 Rows.singleWritesRow.domain false w args ∧ laidMetH Tryd.prog Rows.singleWritesRow.laid w) ∧ sizedMet enc Tryd.prog Tryd.f9 (OpenSpec.ofChange Rows.singleWritesSpec) false w args)
      (Rows.singleWritesSpec.post enc Tryd.prog Tryd.f9 false true false false) := by
  refine returnsInHanded_of_change_and (C := Tryd.checked) (X := fun w _ => laidMetH Tryd.prog Rows.singleWritesRow.laid w) (fun _ _ _ hh h => h.of_heap hh) own started (by kernel_rfl) Tryd.func9
    (ChangeSpec.witness_shaped (enc := enc) (C := Tryd.checked) (os := os) (X := fun w _ => laidMetH Tryd.prog Rows.singleWritesRow.laid w) false (World.laidAll Tryd.prog os Rows.singleWritesRow.laid) #[.int .i64 0, .string ByteArray.empty] 8 (World.laidAll_os _ _ _)
      (World.shaped_of_ZipB (by kernel_rfl) (by kernel_rfl)) (by kernel_rfl) (by kernel_rfl) (by kernel_rfl)
      (by rw [MakeChecks.laidMetH_plain _ _ _ (by kernel_rfl)]; exact laidMet_laidAll _ (by kernel_rfl) (by kernel_rfl))) ?_
  intro W base args ds gs before hval0 hW hcnd _ hL _
  have hT : Tabs W := tabs_of hL
  have hval : ∀ (j : Nat) t v, Tryd.f9.params[j]? = some t → args[j]? = some v → Value.okWide Tryd.prog W .any base t v := hval0
  have hW' := hW
  obtain ⟨p, q, hA0, hV, rfl, hfz, hnd⟩ := hW
  have hA : DataW.TrodAll enc Tryd.prog W 0 (fun _ => true) true Tryd.f9.params.toList args.toList ds p := hA0
  rw [Tryd.params9] at hA hval
  obtain ⟨v0, vs0, d0, ds0, p0, q0, hargs, rfl, rfl, h0, r0⟩ := trodAll_cons hA
  obtain ⟨v1, vs1, d1, ds1, p1, q1, rfl, rfl, rfl, h1, r1⟩ := trodAll_cons r0
  obtain ⟨rfl, rfl, rfl⟩ := trodAll_nil r1
  obtain rfl : args = #[v0, v1] := by cases args; simp_all
  obtain ⟨rfl, rfl⟩ := trodVars_none hV
  obtain ⟨a0, rfl, rfl, rfl, w0⟩ := open_int Tryd.underlying3 (hval 0 3 v0 rfl rfl) h0
  obtain ⟨a1, rfl, rfl, rfl, w1⟩ := open_string Tryd.underlying9 (hval 1 9 v1 rfl rfl) h1
  clear hA0 hval0
  try simp only [List.append_nil] at hW'
  refine (walk a0 a1 W hT).mono fun e W' ⟨he, bel⟩ => ?_
  subst he
  exact ⟨_, rfl, _, _, _, [], [], [], hW', trodAll_mk1 (shut_bool Tryd.underlying4 _), (trodAll_cons_mk (shut_int Tryd.underlying3 w0) (trodAll_cons_mk (shut_string Tryd.underlying9 w1) trodAll_mk0)), rfl, bel.frame _, fun h => by cases h⟩

theorem over : Rows.singleWritesRow.holds Tryd.pinned (OpenSpec.ofChange Rows.singleWritesSpec) :=
  OpenClaim.holds_of_wide 9 Tryd.f9 rfl rfl rfl rfl rfl rfl rfl ⟨rfl, rfl, rfl, rfl, rfl⟩ rfl rfl rfl rfl rfl (by kernel_rfl) Tryd.func9 (by kernel_rfl)
    (of_decide_eq_true (by kernel_rfl)) (by unfold Func.isWrapper; first | (rw [if_pos (by decide +kernel)]; kernel_rfl) | (rw [if_neg (by decide +kernel)]; exact ⟨rfl, rfl⟩))
    (fun os started H enc _ => lifted os started H enc)

theorem said : Rows.SingleWritesSaid := over
theorem plain (f : FuncId) (fn : Func) (hf : Tryd.pinned.checked.prog.funcNamed "diacritic/diacriticlaw05.SingleWrites" = some f) (hfn : Tryd.pinned.checked.prog.funcs[f]? = some fn) :
    false = Tryd.pinned.checked.prog.looks [] ∧ ∀ (j : Nat) t, fn.params[j]? = some t → Tryd.pinned.checked.prog.wantsStandIn t = false := by
  obtain rfl : f = 9 := Option.some.inj ((show Tryd.prog.funcNamed "diacritic/diacriticlaw05.SingleWrites" = some 9 by kernel_rfl).symm.trans hf) |>.symm
  obtain rfl : fn = Tryd.f9 := (Option.some.inj (Tryd.func9.symm.trans hfn)).symm
  refine ⟨by kernel_rfl, fun j t ht => ?_⟩
  rw [Tryd.params9] at ht
  have hm : t ∈ [3, 9] := by simpa using Array.mem_of_getElem? ht
  have hall : ([3, 9].all fun u => !Tryd.prog.wantsStandIn u) = true := by kernel_rfl
  exact (show Tryd.prog.wantsStandIn t = false by simpa using List.all_eq_true.1 hall t hm)
/-- THE CARD. -/
theorem proved : Rows.SingleWritesCardSaid :=
  Claim7.holds_tied_plain_at .later [] _ _ _ _ said (fun _ h => by cases h) (by kernel_rfl) (fun _ h => by cases h) singleWrites_row_tie rfl ⟨rfl, rfl⟩ (by kernel_rfl) rfl plain (by kernel_rfl)
#print axioms proved

end Go.Proofs.YtjlghdlbkibneaaDoor.singleWrites
