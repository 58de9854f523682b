/-
  The law RunLooks holds at every list of pieces, every code and every sign: any code's sign, and any sign's least code, in any table, are the document's.
  Conditions: none beyond the row's own.
-/
import Derived.Test.YtealeedbkjiabaaDoorTb23
import Derived.ChangeMaps
namespace Go.Proofs.YtealeedbkjiabaaDoor.runLooks
open Go Go.Proofs.YtealeedbkjiabaaDoor Go.ChangeShapes Go.WideShapes Go.ChangeAt Go.RowKit
open Go.ChangeMaps (open_string shut_string)
set_option linter.unusedSimpArgs false
set_option linter.unusedVariables false

theorem mid_of {vs : List Pv} (hl : lightP vs = true) (hw : WideP vs) : Mid vs := by
  unfold lightP at hl
  simp only [Bool.and_eq_true, List.all_eq_true, decide_eq_true_eq] at hl
  refine ⟨by omega, fun p hp => ?_⟩
  have := (lightOne_iff p).1 (hl.2 p hp)
  exact ⟨hw p hp, by omega, by omega⟩
theorem KeepT.cell {W w : World} {cs : List (Addr × Value)} {ts : List (Value × List Pr)} (h : KeepT W cs ts w) {a : Addr} {v : Value} (hc : w.cell? a = some v) : KeepT W ((a, v) :: cs) ts w := ⟨h.ex, h.tb, ⟨hc, h.c⟩, h.t⟩
theorem find_is (a : Option Addr) (cap : Nat) (l : List Pr) (c r : Int) (w : World) (hr : findP l c = r) (h : IsPairs w a l.length cap l) (hl : l.length ≤ 1099511627776) :
    Calls Tryd.prog 20 #[.slice a l.length cap, .int .i64 c] w fun e w' => e = .returned (.int .i64 r) ∧ Ext w w' := by
  subst hr
  exact rfind a cap l c w h hl
theorem rev_is (a : Option Addr) (cap : Nat) (l : List Pr) (c r : Int) (w : World) (hr : revP l c = r) (h : IsPairs w a l.length cap l) (hl : l.length ≤ 1099511627776) :
    Calls Tryd.prog 22 #[.slice a l.length cap, .int .i32 c] w fun e w' => e = .returned (.int .i64 r) ∧ Ext w w' := by
  subst hr
  exact rrev a cap l c w h hl
theorem walk_no (a0 : Option Addr) (len0 cap0 : Nat) (vs : List Pv) (code p : Int) (W : World) (hT : Tabs W) (h : IsPieces W a0 len0 cap0 vs) (hl : lightP vs = false) :
    Calls Tryd.prog 4 #[.slice a0 len0 cap0, .int .i64 code, .int .i32 p] W fun e w' => e = .returned (.bool true) ∧ Ext W w' := by
  have HL := light_row h
  rw [hl] at HL
  have HLL := Lib.hid HL
  have HT := Lib.hid hT
  clear HL hT
  go_enter Tryd.func4, Tryd.ntmps4
  go_wp2_with (first
    | (go_at_call 12; refine HLL.out.mono ?_; rintro e w1 ⟨rfl, hb1⟩)
    | (go_at_call 13; refine (awake4 _ (HT.out.ext hb1)).mono ?_; rintro e w2 ⟨rfl, hb2⟩))
  go_ret
  exact ⟨rfl, hb1.trans hb2⟩
set_option maxRecDepth 100000 in
set_option maxHeartbeats 4000000 in
theorem walk_bad (a0 : Option Addr) (cap0 : Nat) (vs : List Pv) (code sg p : Int) (W : World) (hT : Tabs W) (h : IsPieces W a0 vs.length cap0 vs) (hl : lightP vs = true) (hw : WideP vs) (hp : (madeP vs).2 = p) (hp0 : ¬ p < 0) :
    Calls Tryd.prog 4 #[.slice a0 vs.length cap0, .int .i64 code, .int .i32 sg] W fun e w' => e = .returned (.bool true) ∧ Ext W w' := by
  have HL := light_row h
  rw [hl] at HL
  have HLL := Lib.hid HL
  have hC := KeepT.start hT
  have hnil : tabL vs = [] := madeGo_neg vs [] 0 (by show ¬ (madeP vs).2 < 0; rw [hp]; exact hp0)
  have HN : Hid (∀ w, Tabs w → Ext W w → Calls Tryd.prog 14 #[.slice a0 vs.length cap0] w fun e w' => ∃ v, e = .returned (.tuple #[v, .agg #[.int .i64 5, .int .i64 p]]) ∧ IsTab w' v [] ∧ Ext w w') := fun w hT x => by
    refine (new_tab a0 cap0 vs w hT (h.ext x) (mid_of hl hw)).mono ?_
    rintro e w' ⟨v, er, pl, rfl, h1, h2 | h2, h3⟩
    · rw [hp] at h2
      exact absurd h2.1 hp0
    · obtain ⟨_, rfl, rfl⟩ := h2
      rw [hnil] at h1
      rw [hp]
      exact ⟨v, rfl, h1, h3⟩
  have HM : Hid (∀ w, Ext W w → Calls Tryd.prog 15 #[.slice a0 vs.length cap0] w fun e w' => e = .returned (.tuple #[.slice none 0 0, .int .i64 p]) ∧ Ext w w') := fun w x => by
    refine (made_any a0 cap0 vs w (h.ext x) hl).mono ?_
    rintro e w' ⟨h1, h2 | h2⟩
    · rw [hp] at h2
      exact absurd h2.1 hp0
    · rw [hp] at h2
      exact ⟨h2.2, h1⟩
  have hp1 : 0 ≤ p := by omega
  clear HL hT hnil hp h
  go_enter Tryd.func4, Tryd.ntmps4
  go_wp2_with (first
    | (go_at_call 12; refine HLL.out.mono ?_; rintro e w1 ⟨rfl, hb1⟩; have hC' := hC.ext hb1; clear hC hb1; have hC := hC'; clear hC')
    | (go_at_call 14; refine (HN.out _ hC.tb hC.ex).mono ?_; rintro e w2 ⟨v, rfl, ht, hb2⟩; obtain ⟨ta, n1, tc, tb, n2, td, rfl⟩ := ht.open; have hC' := ((hC.ext hb2).tab ht).four (.slice ta n1 tc) (.slice tb n2 td) 27 (.int .i64 5) (.int .i64 p) 30; clear hC hb2 ht; have hC := hC'; clear hC'; obtain ⟨c1, c2, c3, c4, _⟩ := hC.c)
    | (go_at_call 15; refine (HM.out _ hC.ex).mono ?_; rintro e w3 ⟨rfl, hb3⟩; have hC' := hC.ext hb3; clear hC hb3 c1 c2 c3 c4; have hC := hC'; clear hC'; obtain ⟨c1, c2, c3, c4, _⟩ := hC.c)
    | (go_at_call 13; refine (awake4 _ hC.tb).mono ?_; rintro e w4 ⟨rfl, hb4⟩; have hC' := hC.ext hb4; clear hC hb4 c1 c2 c3 c4; have hC := hC'; clear hC'; obtain ⟨c1, c2, c3, c4, _⟩ := hC.c)
    | (go_at_call 17; refine (bad_yes _ _ _ (by decide)).mono ?_; rintro e w5 ⟨rfl, hb5⟩; have hC' := hC.ext hb5; clear hC hb5 c1 c2 c3 c4; have hC := hC'; clear hC'; obtain ⟨c1, c2, c3, c4, _⟩ := hC.c))
  go_ret
  exact ⟨rfl, hC.ex⟩
set_option maxRecDepth 100000 in
set_option maxHeartbeats 4000000 in
theorem walk_yy (a0 : Option Addr) (cap0 : Nat) (vs : List Pv) (l : List Pr) (code sg y k : Int) (j : Nat) (W : World) (hT : Tabs W)
    (HN : Hid (∀ w, Tabs w → Ext W w → Calls Tryd.prog 14 #[.slice a0 vs.length cap0] w fun e w' => ∃ v, e = .returned (.tuple #[v, .agg #[.int .i64 0, .int .i64 0]]) ∧ IsTab w' v l ∧ Ext w w'))
    (HM : Hid (∀ w, Ext W w → Calls Tryd.prog 15 #[.slice a0 vs.length cap0] w fun e w' => ∃ a cap, e = .returned (.tuple #[.slice a l.length cap, .int .i64 (-1)]) ∧ IsPairs w' a l.length cap l ∧ Ext w w'))
    (HLL : Hid (Calls Tryd.prog 12 #[.slice a0 vs.length cap0] W fun e w' => e = .returned (.bool true) ∧ Ext W w'))
    (hlen : l.length ≤ 3600) (HF0 : Hid (From0 l)) (HJ : Hid (l[j]? = some (code, y))) (HFI : Hid (findP l code = (j : Int))) (hjl : j < l.length) (HRI : Hid (revP l sg = k)) (hk0 : 0 ≤ k) :
    Calls Tryd.prog 4 #[.slice a0 vs.length cap0, .int .i64 code, .int .i32 sg] W fun e w' => e = .returned (.bool true) ∧ Ext W w' := by
  have hC := KeepT.start hT
  clear hT
  go_enter Tryd.func4, Tryd.ntmps4
  go_wp2_with (first
    | (go_at_call 12; refine HLL.out.mono ?_; rintro e w1 ⟨rfl, hb1⟩; have hC' := hC.ext hb1; clear hC hb1; have hC := hC'; clear hC')
    | (go_at_call 14; refine (HN.out _ hC.tb hC.ex).mono ?_; rintro e w2 ⟨v, rfl, ht, hb2⟩; obtain ⟨ta, n1, tc, tb, n2, td, rfl⟩ := ht.open; have hC' := ((hC.ext hb2).tab ht).four (.slice ta n1 tc) (.slice tb n2 td) 27 (.int .i64 0) (.int .i64 0) 30; clear hC hb2 ht; have hC := hC'; clear hC'; obtain ⟨c1, c2, c3, c4, _⟩ := hC.c)
    | (go_at_call 15; refine (HM.out _ hC.ex).mono ?_; rintro e w3 ⟨pa, pc, rfl, hpr, hb3⟩; have HPR := Lib.hid hpr; have hC' := hC.ext hb3; clear hC hb3 c1 c2 c3 c4; obtain ⟨px, po, pq, rfl, hpx, hpq, hcell⟩ := pairs_cell hpr hjl; obtain rfl : pq = (code, y) := Option.some.inj (hpq.symm.trans HJ.out); have hC := KeepT.cell hC' (hcell _ (Ext.refl _)).2; clear hC' hpr hpx hpq hcell; have hX := Ext.refl w3; obtain ⟨c1, c2, c3, c4, c5, _⟩ := hC.c)
    | (go_at_call 13; refine (awake4 _ hC.tb).mono ?_; rintro e w4 ⟨rfl, hb4⟩; have hC' := hC.ext hb4; have hX' := hX.trans hb4; clear hC hb4 hX c1 c2 c3 c4 c5; have hC := hC'; have hX := hX'; clear hC' hX'; obtain ⟨c1, c2, c3, c4, c5, _⟩ := hC.c)
    | (go_at_call 19; refine (fwd_yes _ l (code, y) _ hC.t.1 (List.mem_of_getElem? HJ.out)).mono ?_; rintro e w5 ⟨rfl, hb5⟩; have hC' := hC.ext hb5; have hX' := hX.trans hb5; clear hC hb5 hX c1 c2 c3 c4 c5; have hC := hC'; have hX := hX'; clear hC' hX'; obtain ⟨c1, c2, c3, c4, c5, _⟩ := hC.c)
    | (go_at_call 20; refine (find_is _ _ l code _ _ HFI.out (HPR.out.ext hX) (by omega)).mono ?_; rintro e w6 ⟨rfl, hb6⟩; have hC' := hC.ext hb6; have hX' := hX.trans hb6; clear hC hb6 hX c1 c2 c3 c4 c5; have hC := hC'; have hX := hX'; clear hC' hX'; obtain ⟨c1, c2, c3, c4, c5, _⟩ := hC.c)
    | (go_at_call 21; refine (rev_yes_any _ l sg _ _ hC.t.1 HF0.out HRI.out (by omega)).mono ?_; rintro e w7 ⟨rfl, hb7⟩; have hC' := hC.ext hb7; have hX' := hX.trans hb7; clear hC hb7 hX c1 c2 c3 c4 c5; have hC := hC'; have hX := hX'; clear hC' hX'; obtain ⟨c1, c2, c3, c4, c5, _⟩ := hC.c)
    | (go_at_call 22; refine (rev_is _ _ l sg _ _ HRI.out (HPR.out.ext hX) (by omega)).mono ?_; rintro e w8 ⟨rfl, hb8⟩; have hC' := hC.ext hb8; have hX' := hX.trans hb8; clear hC hb8 hX c1 c2 c3 c4 c5; have hC := hC'; have hX := hX'; clear hC' hX'; obtain ⟨c1, c2, c3, c4, c5, _⟩ := hC.c))
  go_ret
  exact ⟨by simp, hC.ex⟩
set_option maxRecDepth 100000 in
set_option maxHeartbeats 4000000 in
theorem walk_yn (a0 : Option Addr) (cap0 : Nat) (vs : List Pv) (l : List Pr) (code sg y : Int) (j : Nat) (W : World) (hT : Tabs W)
    (HN : Hid (∀ w, Tabs w → Ext W w → Calls Tryd.prog 14 #[.slice a0 vs.length cap0] w fun e w' => ∃ v, e = .returned (.tuple #[v, .agg #[.int .i64 0, .int .i64 0]]) ∧ IsTab w' v l ∧ Ext w w'))
    (HM : Hid (∀ w, Ext W w → Calls Tryd.prog 15 #[.slice a0 vs.length cap0] w fun e w' => ∃ a cap, e = .returned (.tuple #[.slice a l.length cap, .int .i64 (-1)]) ∧ IsPairs w' a l.length cap l ∧ Ext w w'))
    (HLL : Hid (Calls Tryd.prog 12 #[.slice a0 vs.length cap0] W fun e w' => e = .returned (.bool true) ∧ Ext W w'))
    (hlen : l.length ≤ 3600) (HF0 : Hid (From0 l)) (HJ : Hid (l[j]? = some (code, y))) (HFI : Hid (findP l code = (j : Int))) (hjl : j < l.length) (HRI : Hid (revP l sg = -1)) (hs0 : -2147483648 ≤ sg) (hs1 : sg ≤ 2147483647) :
    Calls Tryd.prog 4 #[.slice a0 vs.length cap0, .int .i64 code, .int .i32 sg] W fun e w' => e = .returned (.bool true) ∧ Ext W w' := by
  have hC := KeepT.start hT
  clear hT
  go_enter Tryd.func4, Tryd.ntmps4
  go_wp2_with (first
    | (go_at_call 12; refine HLL.out.mono ?_; rintro e w1 ⟨rfl, hb1⟩; have hC' := hC.ext hb1; clear hC hb1; have hC := hC'; clear hC')
    | (go_at_call 14; refine (HN.out _ hC.tb hC.ex).mono ?_; rintro e w2 ⟨v, rfl, ht, hb2⟩; obtain ⟨ta, n1, tc, tb, n2, td, rfl⟩ := ht.open; have hC' := ((hC.ext hb2).tab ht).four (.slice ta n1 tc) (.slice tb n2 td) 27 (.int .i64 0) (.int .i64 0) 30; clear hC hb2 ht; have hC := hC'; clear hC'; obtain ⟨c1, c2, c3, c4, _⟩ := hC.c)
    | (go_at_call 15; refine (HM.out _ hC.ex).mono ?_; rintro e w3 ⟨pa, pc, rfl, hpr, hb3⟩; have HPR := Lib.hid hpr; have hC' := hC.ext hb3; clear hC hb3 c1 c2 c3 c4; obtain ⟨px, po, pq, rfl, hpx, hpq, hcell⟩ := pairs_cell hpr hjl; obtain rfl : pq = (code, y) := Option.some.inj (hpq.symm.trans HJ.out); have hC := KeepT.cell hC' (hcell _ (Ext.refl _)).2; clear hC' hpr hpx hpq hcell; have hX := Ext.refl w3; obtain ⟨c1, c2, c3, c4, c5, _⟩ := hC.c)
    | (go_at_call 13; refine (awake4 _ hC.tb).mono ?_; rintro e w4 ⟨rfl, hb4⟩; have hC' := hC.ext hb4; have hX' := hX.trans hb4; clear hC hb4 hX c1 c2 c3 c4 c5; have hC := hC'; have hX := hX'; clear hC' hX'; obtain ⟨c1, c2, c3, c4, c5, _⟩ := hC.c)
    | (go_at_call 19; refine (fwd_yes _ l (code, y) _ hC.t.1 (List.mem_of_getElem? HJ.out)).mono ?_; rintro e w5 ⟨rfl, hb5⟩; have hC' := hC.ext hb5; have hX' := hX.trans hb5; clear hC hb5 hX c1 c2 c3 c4 c5; have hC := hC'; have hX := hX'; clear hC' hX'; obtain ⟨c1, c2, c3, c4, c5, _⟩ := hC.c)
    | (go_at_call 20; refine (find_is _ _ l code _ _ HFI.out (HPR.out.ext hX) (by omega)).mono ?_; rintro e w6 ⟨rfl, hb6⟩; have hC' := hC.ext hb6; have hX' := hX.trans hb6; clear hC hb6 hX c1 c2 c3 c4 c5; have hC := hC'; have hX := hX'; clear hC' hX'; obtain ⟨c1, c2, c3, c4, c5, _⟩ := hC.c)
    | (go_at_call 21; refine (rev_no_any _ l sg _ hC.t.1 HF0.out (by rw [HRI.out]; decide) hs0 hs1).mono ?_; rintro e w7 ⟨rfl, hb7⟩; have hC' := hC.ext hb7; have hX' := hX.trans hb7; clear hC hb7 hX c1 c2 c3 c4 c5; have hC := hC'; have hX := hX'; clear hC' hX'; obtain ⟨c1, c2, c3, c4, c5, _⟩ := hC.c)
    | (go_at_call 22; refine (rev_is _ _ l sg _ _ HRI.out (HPR.out.ext hX) (by omega)).mono ?_; rintro e w8 ⟨rfl, hb8⟩; have hC' := hC.ext hb8; have hX' := hX.trans hb8; clear hC hb8 hX c1 c2 c3 c4 c5; have hC := hC'; have hX := hX'; clear hC' hX'; obtain ⟨c1, c2, c3, c4, c5, _⟩ := hC.c))
  go_ret
  exact ⟨by simp, hC.ex⟩
set_option maxRecDepth 100000 in
set_option maxHeartbeats 4000000 in
theorem walk_ny (a0 : Option Addr) (cap0 : Nat) (vs : List Pv) (l : List Pr) (code sg k : Int) (W : World) (hT : Tabs W)
    (HN : Hid (∀ w, Tabs w → Ext W w → Calls Tryd.prog 14 #[.slice a0 vs.length cap0] w fun e w' => ∃ v, e = .returned (.tuple #[v, .agg #[.int .i64 0, .int .i64 0]]) ∧ IsTab w' v l ∧ Ext w w'))
    (HM : Hid (∀ w, Ext W w → Calls Tryd.prog 15 #[.slice a0 vs.length cap0] w fun e w' => ∃ a cap, e = .returned (.tuple #[.slice a l.length cap, .int .i64 (-1)]) ∧ IsPairs w' a l.length cap l ∧ Ext w w'))
    (HLL : Hid (Calls Tryd.prog 12 #[.slice a0 vs.length cap0] W fun e w' => e = .returned (.bool true) ∧ Ext W w'))
    (hlen : l.length ≤ 3600) (HF0 : Hid (From0 l)) (HH : Hid (¬ has l code)) (HFI : Hid (findP l code = -1)) (HRI : Hid (revP l sg = k)) (hk0 : 0 ≤ k) :
    Calls Tryd.prog 4 #[.slice a0 vs.length cap0, .int .i64 code, .int .i32 sg] W fun e w' => e = .returned (.bool true) ∧ Ext W w' := by
  have hC := KeepT.start hT
  clear hT
  go_enter Tryd.func4, Tryd.ntmps4
  go_wp2_with (first
    | (go_at_call 12; refine HLL.out.mono ?_; rintro e w1 ⟨rfl, hb1⟩; have hC' := hC.ext hb1; clear hC hb1; have hC := hC'; clear hC')
    | (go_at_call 14; refine (HN.out _ hC.tb hC.ex).mono ?_; rintro e w2 ⟨v, rfl, ht, hb2⟩; obtain ⟨ta, n1, tc, tb, n2, td, rfl⟩ := ht.open; have hC' := ((hC.ext hb2).tab ht).four (.slice ta n1 tc) (.slice tb n2 td) 27 (.int .i64 0) (.int .i64 0) 30; clear hC hb2 ht; have hC := hC'; clear hC'; obtain ⟨c1, c2, c3, c4, _⟩ := hC.c)
    | (go_at_call 15; refine (HM.out _ hC.ex).mono ?_; rintro e w3 ⟨pa, pc, rfl, hpr, hb3⟩; have HPR := Lib.hid hpr; have hC' := hC.ext hb3; clear hC hb3 c1 c2 c3 c4; have hC := hC'; clear hC' hpr; have hX := Ext.refl w3; obtain ⟨c1, c2, c3, c4, _⟩ := hC.c)
    | (go_at_call 13; refine (awake4 _ hC.tb).mono ?_; rintro e w4 ⟨rfl, hb4⟩; have hC' := hC.ext hb4; have hX' := hX.trans hb4; clear hC hb4 hX c1 c2 c3 c4; have hC := hC'; have hX := hX'; clear hC' hX'; obtain ⟨c1, c2, c3, c4, _⟩ := hC.c)
    | (go_at_call 19; refine (fwd_no _ l code _ hC.t.1 HH.out).mono ?_; rintro e w5 ⟨rfl, hb5⟩; have hC' := hC.ext hb5; have hX' := hX.trans hb5; clear hC hb5 hX c1 c2 c3 c4; have hC := hC'; have hX := hX'; clear hC' hX'; obtain ⟨c1, c2, c3, c4, _⟩ := hC.c)
    | (go_at_call 20; refine (find_is _ _ l code _ _ HFI.out (HPR.out.ext hX) (by omega)).mono ?_; rintro e w6 ⟨rfl, hb6⟩; have hC' := hC.ext hb6; have hX' := hX.trans hb6; clear hC hb6 hX c1 c2 c3 c4; have hC := hC'; have hX := hX'; clear hC' hX'; obtain ⟨c1, c2, c3, c4, _⟩ := hC.c)
    | (go_at_call 21; refine (rev_yes_any _ l sg _ _ hC.t.1 HF0.out HRI.out (by omega)).mono ?_; rintro e w7 ⟨rfl, hb7⟩; have hC' := hC.ext hb7; have hX' := hX.trans hb7; clear hC hb7 hX c1 c2 c3 c4; have hC := hC'; have hX := hX'; clear hC' hX'; obtain ⟨c1, c2, c3, c4, _⟩ := hC.c)
    | (go_at_call 22; refine (rev_is _ _ l sg _ _ HRI.out (HPR.out.ext hX) (by omega)).mono ?_; rintro e w8 ⟨rfl, hb8⟩; have hC' := hC.ext hb8; have hX' := hX.trans hb8; clear hC hb8 hX c1 c2 c3 c4; have hC := hC'; have hX := hX'; clear hC' hX'; obtain ⟨c1, c2, c3, c4, _⟩ := hC.c))
  go_ret
  exact ⟨by simp, hC.ex⟩
set_option maxRecDepth 100000 in
set_option maxHeartbeats 4000000 in
theorem walk_nn (a0 : Option Addr) (cap0 : Nat) (vs : List Pv) (l : List Pr) (code sg : Int) (W : World) (hT : Tabs W)
    (HN : Hid (∀ w, Tabs w → Ext W w → Calls Tryd.prog 14 #[.slice a0 vs.length cap0] w fun e w' => ∃ v, e = .returned (.tuple #[v, .agg #[.int .i64 0, .int .i64 0]]) ∧ IsTab w' v l ∧ Ext w w'))
    (HM : Hid (∀ w, Ext W w → Calls Tryd.prog 15 #[.slice a0 vs.length cap0] w fun e w' => ∃ a cap, e = .returned (.tuple #[.slice a l.length cap, .int .i64 (-1)]) ∧ IsPairs w' a l.length cap l ∧ Ext w w'))
    (HLL : Hid (Calls Tryd.prog 12 #[.slice a0 vs.length cap0] W fun e w' => e = .returned (.bool true) ∧ Ext W w'))
    (hlen : l.length ≤ 3600) (HF0 : Hid (From0 l)) (HH : Hid (¬ has l code)) (HFI : Hid (findP l code = -1)) (HRI : Hid (revP l sg = -1)) (hs0 : -2147483648 ≤ sg) (hs1 : sg ≤ 2147483647) :
    Calls Tryd.prog 4 #[.slice a0 vs.length cap0, .int .i64 code, .int .i32 sg] W fun e w' => e = .returned (.bool true) ∧ Ext W w' := by
  have hC := KeepT.start hT
  clear hT
  go_enter Tryd.func4, Tryd.ntmps4
  go_wp2_with (first
    | (go_at_call 12; refine HLL.out.mono ?_; rintro e w1 ⟨rfl, hb1⟩; have hC' := hC.ext hb1; clear hC hb1; have hC := hC'; clear hC')
    | (go_at_call 14; refine (HN.out _ hC.tb hC.ex).mono ?_; rintro e w2 ⟨v, rfl, ht, hb2⟩; obtain ⟨ta, n1, tc, tb, n2, td, rfl⟩ := ht.open; have hC' := ((hC.ext hb2).tab ht).four (.slice ta n1 tc) (.slice tb n2 td) 27 (.int .i64 0) (.int .i64 0) 30; clear hC hb2 ht; have hC := hC'; clear hC'; obtain ⟨c1, c2, c3, c4, _⟩ := hC.c)
    | (go_at_call 15; refine (HM.out _ hC.ex).mono ?_; rintro e w3 ⟨pa, pc, rfl, hpr, hb3⟩; have HPR := Lib.hid hpr; have hC' := hC.ext hb3; clear hC hb3 c1 c2 c3 c4; have hC := hC'; clear hC' hpr; have hX := Ext.refl w3; obtain ⟨c1, c2, c3, c4, _⟩ := hC.c)
    | (go_at_call 13; refine (awake4 _ hC.tb).mono ?_; rintro e w4 ⟨rfl, hb4⟩; have hC' := hC.ext hb4; have hX' := hX.trans hb4; clear hC hb4 hX c1 c2 c3 c4; have hC := hC'; have hX := hX'; clear hC' hX'; obtain ⟨c1, c2, c3, c4, _⟩ := hC.c)
    | (go_at_call 19; refine (fwd_no _ l code _ hC.t.1 HH.out).mono ?_; rintro e w5 ⟨rfl, hb5⟩; have hC' := hC.ext hb5; have hX' := hX.trans hb5; clear hC hb5 hX c1 c2 c3 c4; have hC := hC'; have hX := hX'; clear hC' hX'; obtain ⟨c1, c2, c3, c4, _⟩ := hC.c)
    | (go_at_call 20; refine (find_is _ _ l code _ _ HFI.out (HPR.out.ext hX) (by omega)).mono ?_; rintro e w6 ⟨rfl, hb6⟩; have hC' := hC.ext hb6; have hX' := hX.trans hb6; clear hC hb6 hX c1 c2 c3 c4; have hC := hC'; have hX := hX'; clear hC' hX'; obtain ⟨c1, c2, c3, c4, _⟩ := hC.c)
    | (go_at_call 21; refine (rev_no_any _ l sg _ hC.t.1 HF0.out (by rw [HRI.out]; decide) hs0 hs1).mono ?_; rintro e w7 ⟨rfl, hb7⟩; have hC' := hC.ext hb7; have hX' := hX.trans hb7; clear hC hb7 hX c1 c2 c3 c4; have hC := hC'; have hX := hX'; clear hC' hX'; obtain ⟨c1, c2, c3, c4, _⟩ := hC.c)
    | (go_at_call 22; refine (rev_is _ _ l sg _ _ HRI.out (HPR.out.ext hX) (by omega)).mono ?_; rintro e w8 ⟨rfl, hb8⟩; have hC' := hC.ext hb8; have hX' := hX.trans hb8; clear hC hb8 hX c1 c2 c3 c4; have hC := hC'; have hX := hX'; clear hC' hX'; obtain ⟨c1, c2, c3, c4, _⟩ := hC.c))
  go_ret
  exact ⟨by simp, hC.ex⟩
theorem walk_ok (a0 : Option Addr) (cap0 : Nat) (vs : List Pv) (code sg : Int) (hs0 : -2147483648 ≤ sg) (hs1 : sg ≤ 2147483647) (W : World) (hT : Tabs W) (h : IsPieces W a0 vs.length cap0 vs) (hl : lightP vs = true) (hw : WideP vs) (hp : (madeP vs).2 < 0) :
    Calls Tryd.prog 4 #[.slice a0 vs.length cap0, .int .i64 code, .int .i32 sg] W fun e w' => e = .returned (.bool true) ∧ Ext W w' := by
  have HL := light_row h
  rw [hl] at HL
  have HLL := Lib.hid HL
  have HN : Hid (∀ w, Tabs w → Ext W w → Calls Tryd.prog 14 #[.slice a0 vs.length cap0] w fun e w' => ∃ v, e = .returned (.tuple #[v, .agg #[.int .i64 0, .int .i64 0]]) ∧ IsTab w' v (tabL vs) ∧ Ext w w') := fun w hT x => by
    refine (new_tab a0 cap0 vs w hT (h.ext x) (mid_of hl hw)).mono ?_
    rintro e w' ⟨v, er, pl, rfl, h1, h2 | h2, h3⟩
    · obtain ⟨_, rfl, rfl⟩ := h2
      exact ⟨v, rfl, h1, h3⟩
    · exact absurd hp h2.1
  have HM : Hid (∀ w, Ext W w → Calls Tryd.prog 15 #[.slice a0 vs.length cap0] w fun e w' => ∃ a cap, e = .returned (.tuple #[.slice a (tabL vs).length cap, .int .i64 (-1)]) ∧ IsPairs w' a (tabL vs).length cap (tabL vs) ∧ Ext w w') := fun w x => by
    refine (made_any a0 cap0 vs w (h.ext x) hl).mono ?_
    rintro e w' ⟨h1, h2 | h2⟩
    · obtain ⟨_, a, c, rfl, h3⟩ := h2
      exact ⟨a, c, rfl, h3, h1⟩
    · exact absurd hp h2.1
  have hlen : (tabL vs).length ≤ 3600 := madeP_len hl
  obtain ⟨hri, hf0⟩ := madeP_good vs
  have hri : Rising (tabL vs) := hri
  have hf0 : From0 (tabL vs) := hf0
  clear HL hp h
  generalize tabL vs = l at HN HM hlen hri hf0
  have HF0 := Lib.hid hf0
  have hrev : revP l sg = -1 ∨ 0 ≤ revP l sg := by
    rcases revP_iff hri hf0 sg with ⟨_, h2⟩ | ⟨h1, _⟩
    · exact .inl (revP_no sg l (fun i p hp => h2 p (List.mem_of_getElem? hp)))
    · exact .inr h1
  by_cases hh : 0 ≤ findP l code
  · obtain ⟨j, ⟨x, y⟩, hj, hlj, hx⟩ := findP_get hh
    have hx : x = code := hx
    subst hx
    have hjl : j < l.length := (List.getElem?_eq_some_iff.1 hlj).1
    rcases hrev with hr | hr
    · exact walk_yn a0 cap0 vs l x sg y j W hT HN HM HLL hlen HF0 (Lib.hid hlj) (Lib.hid hj) hjl (Lib.hid hr) hs0 hs1
    · exact walk_yy a0 cap0 vs l x sg y _ j W hT HN HM HLL hlen HF0 (Lib.hid hlj) (Lib.hid hj) hjl (Lib.hid rfl) hr
  · have hn : ¬ has l code := (findP_not l code).1 (by omega)
    have hm : findP l code = -1 := findGo_no code l 0 (fun i p hp e => hn ⟨p, List.mem_of_getElem? hp, e⟩)
    rcases hrev with hr | hr
    · exact walk_nn a0 cap0 vs l code sg W hT HN HM HLL hlen HF0 (Lib.hid hn) (Lib.hid hm) (Lib.hid hr) hs0 hs1
    · exact walk_ny a0 cap0 vs l code sg _ W hT HN HM HLL hlen HF0 (Lib.hid hn) (Lib.hid hm) (Lib.hid rfl) hr
theorem walk (a0 : Option Addr) (len0 cap0 : Nat) (vs : List Pv) (code sg : Int) {W0 : World} (hh : IsPieces W0 a0 len0 cap0 vs ∧ WideP vs) (hs : (Lit.int .i32 sg).wf = true) (W : World) (e : W0 = W) (hT : Tabs W) :
    Calls Tryd.prog 4 #[.slice a0 len0 cap0, .int .i64 code, .int .i32 sg] W fun e w' => e = .returned (.bool true) ∧ Ext W w' := by
  subst e
  obtain ⟨h, hw⟩ := hh
  have hs0 : -2147483648 ≤ sg := by
    have := hs
    simp only [Lit.wf, Bool.and_eq_true, decide_eq_true_eq] at this
    have e1 : IntKind.min .i32 = -2147483648 := by decide
    have e2 : IntKind.max .i32 = 2147483647 := by decide
    omega
  have hs1 : sg ≤ 2147483647 := by
    have := hs
    simp only [Lit.wf, Bool.and_eq_true, decide_eq_true_eq] at this
    have e1 : IntKind.min .i32 = -2147483648 := by decide
    have e2 : IntKind.max .i32 = 2147483647 := by decide
    omega
  cases hl : lightP vs with
  | false => exact walk_no a0 len0 cap0 vs code sg _ hT h hl
  | true =>
    obtain rfl : vs.length = len0 := h.1
    by_cases hp : (madeP vs).2 < 0
    · exact walk_ok a0 cap0 vs code sg hs0 hs1 _ hT h hl hw hp
    · exact walk_bad a0 cap0 vs code sg _ _ hT h hl hw rfl hp
set_option maxRecDepth 100000 in
theorem lifted (os : Os) (started : os.Started) (H : Type) (enc : TypeId × Value → H) :
    ReturnsInHanded {} Tryd.checked os 4 .any (fun w args => (Rows.runLooksSpec.pre enc Tryd.prog Tryd.f4 Rows.runLooksRow.domain false w args ∧ laidMetH Tryd.prog Rows.runLooksRow.laid w) ∧ sizedMet enc Tryd.prog Tryd.f4 (OpenSpec.ofChange Rows.runLooksSpec) false w args)
      (Rows.runLooksSpec.post enc Tryd.prog Tryd.f4 false true false false) := by
  refine returnsInHanded_of_change_and (C := Tryd.checked) (X := fun w _ => laidMetH Tryd.prog Rows.runLooksRow.laid w) (fun _ _ _ hh h => h.of_heap hh) own started (by kernel_rfl) Tryd.func4
    (ChangeSpec.witness_shaped (enc := enc) (C := Tryd.checked) (os := os) (X := fun w _ => laidMetH Tryd.prog Rows.runLooksRow.laid w) false (World.laidAll Tryd.prog os Rows.runLooksRow.laid) #[.slice none 0 0, .int .i64 0, .int .i32 0] 8 (World.laidAll_os _ _ _)
      (World.shaped_of_ZipB (by kernel_rfl) (by kernel_rfl)) (by kernel_rfl) (by kernel_rfl) (by kernel_rfl)
      (by rw [MakeChecks.laidMetH_plain _ _ _ (by kernel_rfl)]; exact laidMet_laidAll _ (by kernel_rfl) (by kernel_rfl))) ?_
  intro W base args ds gs before hval0 hW hcnd _ hL _
  have hT : Tabs W := tabs_of hL
  have hval : ∀ (j : Nat) t v, Tryd.f4.params[j]? = some t → args[j]? = some v → Value.okWide Tryd.prog W .any base t v := hval0
  have hW' := hW
  obtain ⟨p, q, hA0, hV, rfl, hfz, hnd⟩ := hW
  have hA : DataW.TrodAll enc Tryd.prog W 0 (fun _ => true) true Tryd.f4.params.toList args.toList ds p := hA0
  rw [Tryd.params4] at hA hval
  obtain ⟨v0, vs0, d0, ds0, p0, q0, hargs, rfl, rfl, h0, r0⟩ := trodAll_cons hA
  obtain ⟨v1, vs1, d1, ds1, p1, q1, rfl, rfl, rfl, h1, r1⟩ := trodAll_cons r0
  obtain ⟨v2, vs2, d2, ds2, p2, q2, rfl, rfl, rfl, h2, r2⟩ := trodAll_cons r1
  obtain ⟨rfl, rfl, rfl⟩ := trodAll_nil r2
  obtain rfl : args = #[v0, v1, v2] := by cases args; simp_all
  obtain ⟨rfl, rfl⟩ := trodVars_none hV
  obtain ⟨a0, len0, cap0, rfl⟩ := okWide_slice Tryd.underlying22 (hval 0 22 v0 rfl rfl)
  have k0 := h0
  have lt0 : ∀ x ∈ p0, x.block < W.heap.size := by obtain ⟨m, hm⟩ := k0; exact DataW.trod_lt m _ _ _ hm
  obtain ⟨z0, w0⟩ : ∃ vs, IsPieces W a0 len0 cap0 vs ∧ WideP vs := by
    obtain ⟨fuel, hf⟩ := h0
    rcases Go.Deep.open_slice Tryd.underlying22 hf with ⟨hcs, _⟩ | ⟨x, len', cap', m, nn, D, Pl, hcs, _, hl, hm, hmm, hx, hi⟩
    · simp [Value.cells] at hcs
      obtain ⟨rfl, rfl, rfl⟩ := hcs
      exact ⟨[], ⟨rfl, .inl rfl⟩, fun p hp => by simp at hp⟩
    · simp [Value.cells] at hcs
      obtain ⟨rfl, rfl, rfl⟩ := hcs
      exact pieces_of hl (fun i hil => by
        have c45 : Tryd.prog.cellsOf 74 = 4 := by kernel_rfl
        have him : i < m := by rw [hmm]; split <;> omega
        obtain ⟨cs', hc, ht'⟩ := hi i him
        rw [c45] at hc
        obtain ⟨_, hcl, hat⟩ := World.cells?_some hc
        obtain ⟨k0, k1, k2, k3, rfl, k5⟩ := piece_read hcl ht'
        have e0 := hat 0 (by omega)
        have e1 := hat 1 (by omega)
        have e2 := hat 2 (by omega)
        have e3 := hat 3 (by omega)
        rw [Go.Deep.add_add] at e0 e1 e2 e3
        exact ⟨k0, k1, k2, k3, k5, e0, e1, e2, e3⟩)
  obtain ⟨a1, rfl, rfl, rfl, w1⟩ := open_int Tryd.underlying3 (hval 1 3 v1 rfl rfl) h1
  obtain ⟨a2, rfl, rfl, rfl, w2⟩ := open_int Tryd.underlying21 (hval 2 21 v2 rfl rfl) h2
  clear hA0 hval0
  refine (walk a0 len0 cap0 z0 a1 a2 w0 w2 W rfl hT).mono fun e W' ⟨he, bel⟩ => ?_
  subst he
  exact ⟨_, rfl, _, _, _, [], _, [], hW', trodAll_mk1 (shut_bool Tryd.underlying4 _), (trodAll_cons_mk (Below.trod laidOut (by kernel_rfl) (of_decide_eq_true (by kernel_rfl)) k0 bel lt0) (trodAll_cons_mk (shut_int Tryd.underlying3 w1) (trodAll_cons_mk (shut_int Tryd.underlying21 w2) trodAll_mk0))), rfl, bel.frame _, fun h => by cases h⟩

theorem over : Rows.runLooksRow.holds Tryd.pinned (OpenSpec.ofChange Rows.runLooksSpec) :=
  OpenClaim.holds_of_wide 4 Tryd.f4 rfl rfl rfl rfl rfl rfl rfl ⟨rfl, rfl, rfl, rfl, rfl⟩ rfl rfl rfl rfl rfl (by kernel_rfl) Tryd.func4 (by kernel_rfl)
    (of_decide_eq_true (by kernel_rfl)) (by unfold Func.isWrapper; first | (rw [if_pos (by decide +kernel)]; kernel_rfl) | (rw [if_neg (by decide +kernel)]; exact ⟨rfl, rfl⟩))
    (fun os started H enc _ => lifted os started H enc)

theorem said : Rows.RunLooksSaid := over
theorem plain (f : FuncId) (fn : Func) (hf : Tryd.pinned.checked.prog.funcNamed "diacritic/diacriticlaw04.RunLooks" = some f) (hfn : Tryd.pinned.checked.prog.funcs[f]? = some fn) :
    false = Tryd.pinned.checked.prog.looks [] ∧ ∀ (j : Nat) t, fn.params[j]? = some t → Tryd.pinned.checked.prog.wantsStandIn t = false := by
  obtain rfl : f = 4 := Option.some.inj ((show Tryd.prog.funcNamed "diacritic/diacriticlaw04.RunLooks" = some 4 by kernel_rfl).symm.trans hf) |>.symm
  obtain rfl : fn = Tryd.f4 := (Option.some.inj (Tryd.func4.symm.trans hfn)).symm
  refine ⟨by kernel_rfl, fun j t ht => ?_⟩
  rw [Tryd.params4] at ht
  have hm : t ∈ [22, 3, 21] := by simpa using Array.mem_of_getElem? ht
  have hall : ([22, 3, 21].all fun u => !Tryd.prog.wantsStandIn u) = true := by kernel_rfl
  exact (show Tryd.prog.wantsStandIn t = false by simpa using List.all_eq_true.1 hall t hm)
/-- THE CARD. -/
theorem proved : Rows.RunLooksCardSaid :=
  Claim7.holds_tied_plain_at .later [] _ _ _ _ said (fun _ h => by cases h) (by kernel_rfl) (fun _ h => by cases h) runLooks_row_tie rfl ⟨rfl, rfl⟩ (by kernel_rfl) rfl plain (by kernel_rfl)
#print axioms proved

end Go.Proofs.YtealeedbkjiabaaDoor.runLooks
