/-
  What the proof of this claim leans on (S33).
-/
import Derived.Test.YtndopjmdpmkgeaaGreatDoorS30
import Derived.Test.YtndopjmdpmkgeaaGreatDoorS32
namespace Go.Proofs.YtndopjmdpmkgeaaGreatDoor
open Go Go.ChangeShapes Go.WideShapes Go.ChangeAt Go.RowKit
set_option linter.unusedSimpArgs false
set_option linter.unusedVariables false

/-- The sign of a code by the spans from one on, so many; 0: none has it. -/
def soGo (c : Int) : Nat → Nat → Int
  | 0, _ => 0
  | k + 1, i => if (spF i : Int) ≤ c ∧ c < spF i + spN i then spT i + (c - spF i) else soGo c k (i + 1)
theorem at_span (i : Nat) (hi : i < 19) (w : World) : (Instr.index 200 (.agg spC) (.int .i64 i)).run Tryz.prog w = .ok (.agg #[.int .i64 (spF i), .int .i32 (spT i), .int .i64 (spN i), .string ⟨#[]⟩]) w := by
  have : i = 0 ∨ i = 1 ∨ i = 2 ∨ i = 3 ∨ i = 4 ∨ i = 5 ∨ i = 6 ∨ i = 7 ∨ i = 8 ∨ i = 9 ∨ i = 10 ∨ i = 11 ∨ i = 12 ∨ i = 13 ∨ i = 14 ∨ i = 15 ∨ i = 16 ∨ i = 17 ∨ i = 18 := by omega
  rcases this with rfl | rfl | rfl | rfl | rfl | rfl | rfl | rfl | rfl | rfl | rfl | rfl | rfl | rfl | rfl | rfl | rfl | rfl | rfl
  all_goals
    clear hi
    show _ = _
    kernel_rfl
theorem span_bd (i : Nat) (hi : i < 19) : 41889 ≤ spF i ∧ spF i ≤ 44300 ∧ 913 ≤ spT i ∧ spT i ≤ 65510 ∧ 1 ≤ spN i ∧ spN i ≤ 94 := by
  have : i = 0 ∨ i = 1 ∨ i = 2 ∨ i = 3 ∨ i = 4 ∨ i = 5 ∨ i = 6 ∨ i = 7 ∨ i = 8 ∨ i = 9 ∨ i = 10 ∨ i = 11 ∨ i = 12 ∨ i = 13 ∨ i = 14 ∨ i = 15 ∨ i = 16 ∨ i = 17 ∨ i = 18 := by omega
  rcases this with rfl | rfl | rfl | rfl | rfl | rfl | rfl | rfl | rfl | rfl | rfl | rfl | rfl | rfl | rfl | rfl | rfl | rfl | rfl <;> decide
set_option maxRecDepth 100000 in
set_option maxHeartbeats 2000000 in
theorem sign_span (c : Int) (w : World) (h0 : 0 ≤ c) (h1 : c < 65536) (R : Int) (hR : soGo c 19 0 = R) (hz : R ≠ 0) :
    Calls Tryz.prog 145 #[.int .i64 c] w fun e w' => e = .returned (.tuple #[.int .i32 R, .bool true]) ∧ Ext w w' := by
  have HS := Lib.hid (fun w => cspans w)
  have H0 : Hid (soGo c (19 - 0) 0 = R) := hR
  clear hR
  have HZ := Lib.hid hz
  clear hz
  go_enter Tryz.func145, Tryz.ntmps145
  go_wp2_with (go_at_call 181; refine (HS.out _).mono ?_; rintro e w1 ⟨rfl, hb1⟩)
  obtain ⟨C, hC⟩ : ∃ C, C = spC := ⟨_, rfl⟩
  rw [← hC]
  have HX := Lib.hid (fun i hi w => at_span i hi w)
  rw [← hC] at HX
  clear hC
  go_loopw [12] (fun v wr => ∃ i : Nat, i ≤ 19 ∧ v = .int .i64 i ∧ Ext w1 wr ∧ Hid (soGo c (19 - i) i = R)) (fun v _ => 19 - (intOf v).toNat)
  case atStart => exact ⟨0, by omega, rfl, Ext.refl _, H0⟩
  case round =>
    obtain ⟨i, hi, rfl, hx, HI⟩ := hrel
    clear H0
    by_cases hlt : i < 19
    · have hli : (i : Int) < 19 := by omega
      have hix := fun w2 => HX.out i hlt w2
      obtain ⟨b1, b2, b3, b4, b5, b6⟩ := span_bd i hlt
      have e0 : soGo c (19 - i) i = if (spF i : Int) ≤ c ∧ c < spF i + spN i then spT i + (c - spF i) else soGo c (19 - (i + 1)) (i + 1) := by
        rw [show 19 - i = (19 - (i + 1)) + 1 from by omega]
        rfl
      have HN : Hid ((if (spF i : Int) ≤ c ∧ c < spF i + spN i then spT i + (c - spF i) else soGo c (19 - (i + 1)) (i + 1)) = R) := e0.symm.trans HI.out
      clear e0 HI
      generalize spF i = f at hix b1 b2 HN
      generalize spT i = t at hix b3 b4 HN
      generalize spN i = n at hix b5 b6 HN
      have f0 : (41889 : Int) ≤ f := by omega
      have f1 : (f : Int) ≤ 44300 := by omega
      have t0 : (913 : Int) ≤ t := by omega
      have t1 : (t : Int) ≤ 65510 := by omega
      have n0 : (1 : Int) ≤ n := by omega
      have n1 : (n : Int) ≤ 94 := by omega
      clear b1 b2 b3 b4 b5 b6
      by_cases hin : (f : Int) ≤ c ∧ c < f + n
      · have HF : Hid ((t : Int) + (c - f) = R) := by
          have := HN.out
          rw [if_pos hin] at this
          exact this
        obtain ⟨k1, k2⟩ := hin
        have k3 : (0 : Int) ≤ c - f := by omega
        have k4 : c - (f : Int) < n := by omega
        clear HN
        go_wp2
        go_ret2
        exact ⟨by rw [← HF.out]; rfl, (hb1.trans hx).alloc _⟩
      · have HF : Hid (soGo c (19 - (i + 1)) (i + 1) = R) := by
          have := HN.out
          rw [if_neg hin] at this
          exact this
        have hcc : c - (f : Int) < 0 ∨ (0 ≤ c - (f : Int) ∧ ¬ c - (f : Int) < n) := by omega
        clear HN hin
        rcases hcc with k3 | ⟨k3, k4⟩
        all_goals
          go_wp2
          go_roundw
          case rel => exact ⟨i + 1, by omega, by go_num, hx.alloc _, HF⟩
          case measure => simp [intOf]; omega
    · exfalso
      have : i = 19 := by omega
      subst this
      exact HZ.out HI.out.symm
def slF (j : Nat) : Nat := if j = 0 then 41377 else if j = 1 then 41633 else 42657
def slL (j : Nat) : List Int := if j = 0 then rowL1 else if j = 1 then rowL2 else rowL6
/-- The sign of a code by the lists from one on, so many; 0: none has it. -/
def slGo (c : Int) : Nat → Nat → Int
  | 0, _ => 0
  | k + 1, j => if 0 ≤ c - (slF j : Int) ∧ c - (slF j : Int) < (slL j).length then (slL j).getD (c - (slF j : Int)).toNat 0 else slGo c k (j + 1)
theorem lsV_get (j : Nat) (hj : j < 3) : lsV[j]? = some ⟨(slF j : Int), 0, 0, txt (slL j)⟩ := by
  have : j = 0 ∨ j = 1 ∨ j = 2 := by omega
  rcases this with rfl | rfl | rfl <;> rfl
set_option maxRecDepth 100000 in
theorem slL_ok (j : Nat) : allSigns (slL j) = true ∧ (slL j).length ≤ 100 ∧ (slL j).all (fun z => decide (z ≠ 0)) = true := by
  unfold slL
  split
  · decide +kernel
  · split <;> decide +kernel
set_option maxRecDepth 100000 in
set_option maxHeartbeats 2000000 in
theorem sign_list (c : Int) (w : World) (h0 : 0 ≤ c) (h1 : c < 65536) (R : Int) (hS : soGo c 19 0 = 0) (hR : slGo c 3 0 = R) :
    Calls Tryz.prog 145 #[.int .i64 c] w fun e w' => e = .returned (.tuple #[.int .i32 R, .bool (decide (R ≠ 0))]) ∧ Ext w w' := by
  have HS := Lib.hid (fun w => cspans w)
  have HLS := Lib.hid (fun w => clists w)
  have H0 : Hid (soGo c (19 - 0) 0 = 0) := hS
  have HR0 : Hid (slGo c (3 - 0) 0 = R) := hR
  clear hS hR
  go_enter Tryz.func145, Tryz.ntmps145
  go_wp2_with (go_at_call 181; refine (HS.out _).mono ?_; rintro e w1 ⟨rfl, hb1⟩)
  obtain ⟨C, hC⟩ : ∃ C, C = spC := ⟨_, rfl⟩
  rw [← hC]
  have HX := Lib.hid (fun i hi w => at_span i hi w)
  rw [← hC] at HX
  clear hC
  go_loopw [12] (fun v wr => ∃ i : Nat, i ≤ 19 ∧ v = .int .i64 i ∧ Ext w1 wr ∧ Hid (soGo c (19 - i) i = 0)) (fun v _ => 19 - (intOf v).toNat)
  case atStart => exact ⟨0, by omega, rfl, Ext.refl _, H0⟩
  case round =>
    obtain ⟨i, hi, rfl, hx, HI⟩ := hrel
    clear H0
    by_cases hlt : i < 19
    · have hli : (i : Int) < 19 := by omega
      have hix := fun w2 => HX.out i hlt w2
      obtain ⟨b1, b2, b3, b4, b5, b6⟩ := span_bd i hlt
      have e0 : soGo c (19 - i) i = if (spF i : Int) ≤ c ∧ c < spF i + spN i then spT i + (c - spF i) else soGo c (19 - (i + 1)) (i + 1) := by
        rw [show 19 - i = (19 - (i + 1)) + 1 from by omega]
        rfl
      have HN : Hid ((if (spF i : Int) ≤ c ∧ c < spF i + spN i then spT i + (c - spF i) else soGo c (19 - (i + 1)) (i + 1)) = 0) := e0.symm.trans HI.out
      clear e0 HI
      generalize spF i = f at hix b1 b2 HN
      generalize spT i = t at hix b3 b4 HN
      generalize spN i = n at hix b5 b6 HN
      have f0 : (41889 : Int) ≤ f := by omega
      have f1 : (f : Int) ≤ 44300 := by omega
      have t0 : (913 : Int) ≤ t := by omega
      have t1 : (t : Int) ≤ 65510 := by omega
      have n0 : (1 : Int) ≤ n := by omega
      have n1 : (n : Int) ≤ 94 := by omega
      clear b1 b2 b3 b4 b5 b6
      by_cases hin : (f : Int) ≤ c ∧ c < f + n
      · exfalso
        have := HN.out
        rw [if_pos hin] at this
        omega
      · have HF : Hid (soGo c (19 - (i + 1)) (i + 1) = 0) := by
          have := HN.out
          rw [if_neg hin] at this
          exact this
        have hcc : c - (f : Int) < 0 ∨ (0 ≤ c - (f : Int) ∧ ¬ c - (f : Int) < n) := by omega
        clear HN hin
        rcases hcc with k3 | ⟨k3, k4⟩
        all_goals
          go_wp2
          go_roundw
          case rel => exact ⟨i + 1, by omega, by go_num, hx.alloc _, HF⟩
          case measure => simp [intOf]; omega
    · have hie : i = 19 := by omega
      subst hie
      clear HI
      go_wp2_with (go_at_call 182; refine (HLS.out _).mono ?_; rintro e w3 ⟨g, rfl, hp, hb3⟩)
      have HP := Lib.hid hp
      clear hp
      go_loopw [35] (fun v wr2 => ∃ j : Nat, j ≤ 3 ∧ v = .int .i64 j ∧ Ext w3 wr2 ∧ Hid (slGo c (3 - j) j = R)) (fun v _ => 3 - (intOf v).toNat)
      case atStart => exact ⟨0, by omega, rfl, Ext.refl _, HR0⟩
      case round =>
        obtain ⟨j, hj, rfl, hx2, HJ⟩ := hrel
        clear HR0
        by_cases hjl : j < 3
        · have hji : (j : Int) < 3 := by omega
          obtain ⟨x, off, p, hxo, hxs, hpp, hcell⟩ := piece_at HP.out hjl
          obtain ⟨rfl, rfl⟩ : g = x ∧ 0 = off := by
            have := Option.some.inj hxo
            injection this with q1 q2 q3
            exact ⟨q1, q2⟩
          rw [lsV_get j hjl] at hpp
          obtain rfl := (Option.some.inj hpp).symm
          clear hpp hxo
          obtain ⟨m0, m1, m2, m3⟩ := hcell _ hx2
          obtain ⟨s1, s2, s3⟩ := slL_ok j
          dsimp only at m0 m1 m2 m3
          rw [Nat.zero_add] at m0 m1 m2 m3
          have e0 : slGo c (3 - j) j = if 0 ≤ c - (slF j : Int) ∧ c - (slF j : Int) < (slL j).length then (slL j).getD (c - (slF j : Int)).toNat 0 else slGo c (3 - (j + 1)) (j + 1) := by
            rw [show 3 - j = (3 - (j + 1)) + 1 from by omega]
            rfl
          have HN := Lib.hid (e0.symm.trans HJ.out)
          have hf : slF j ≤ 42657 := by
            unfold slF
            split
            · omega
            · split <;> omega
          have HQ := Lib.hid (fun w => nth_sign (slL j) s1 (c - (slF j : Int)) w (by omega) (by omega) (by omega))
          have HNZ := Lib.hid (fun z hz => List.all_eq_true.1 s3 z hz)
          clear e0 HJ s1 s3
          generalize slF j = f at m0 HN HQ hf
          generalize slL j = L at m3 HN HQ HNZ s2
          have hfi : (f : Int) ≤ 42657 := by omega
          generalize txt L = tx at m3 HQ
          by_cases hin : 0 ≤ c - (f : Int) ∧ c - (f : Int) < L.length
          · have hN := HN.out
            rw [if_pos hin] at hN
            rw [decide_eq_true hin, if_pos hin.1, hN] at HQ
            have hR0 : R ≠ 0 := by
              have hlt2 : (c - (f : Int)).toNat < L.length := by omega
              rw [List.getD_eq_getElem?_getD, List.getElem?_eq_getElem hlt2, Option.getD_some] at hN
              have := HNZ.out _ (List.getElem_mem hlt2)
              rw [hN] at this
              simpa using this
            have hd : decide (R ≠ 0) = true := decide_eq_true hR0
            have HDD := Lib.hid hd
            clear hN HN HNZ hd hR0 hin s2 hf
            go_wp2_with (go_at_call 183; refine (HQ.out _).mono ?_; rintro e w4 ⟨rfl, hb4⟩)
            go_ret2
            exact ⟨by rw [HDD.out]; rfl, (((hb1.trans hx).trans hb3).trans (hx2.alloc _)).trans hb4⟩
          · have hN := HN.out
            rw [if_neg hin] at hN
            rw [decide_eq_false hin] at HQ
            have HF := Lib.hid hN
            clear hN HN HNZ hin s2 hf
            generalize (if 0 ≤ c - (f : Int) then L.getD (c - (f : Int)).toNat 0 else 0) = q at HQ
            go_wp2_with (go_at_call 183; refine (HQ.out _).mono ?_; rintro e w4 ⟨rfl, hb4⟩)
            go_roundw
            case rel => exact ⟨j + 1, by omega, by go_num, (hx2.alloc _).trans hb4, HF⟩
            case measure => simp [intOf]; omega
        · have hje : j = 3 := by omega
          subst hje
          have e : (0 : Int) = R := HJ.out
          subst e
          clear HJ
          go_wp2
          go_ret2
          exact ⟨rfl, ((hb1.trans hx).trans hb3).trans hx2⟩
end Go.Proofs.YtndopjmdpmkgeaaGreatDoor

namespace Go.Proofs.YtndopjmdpmkgeaaGreatDoor
open Go Go.ChangeShapes Go.WideShapes Go.ChangeAt Go.RowKit
set_option linter.unusedSimpArgs false
set_option linter.unusedVariables false

/-- The sign of a code of the rows, as the code looks for it. -/
def soZ (c : Int) : Int := if soGo c 19 0 = 0 then slGo c 3 0 else soGo c 19 0
theorem wsign_of (c : Int) (w : World) (h0 : 0 ≤ c) (h1 : c < 65536) :
    Calls Tryz.prog 145 #[.int .i64 c] w fun e w' => e = .returned (.tuple #[.int .i32 (soZ c), .bool (decide (soZ c ≠ 0))]) ∧ Ext w w' := by
  unfold soZ
  by_cases h : soGo c 19 0 = 0
  · rw [if_pos h]
    exact sign_list c w h0 h1 _ h rfl
  · rw [if_neg h, decide_eq_true h]
    exact sign_span c w h0 h1 _ rfl h
set_option maxRecDepth 1000000 in
theorem so_all : (List.range 94).all (fun a => (List.range 94).all fun b => (15 ≤ a && a ≤ 39) || (soZ (((161 + a) * 256 + (161 + b) : Nat) : Int) == rowZ (161 + a) (161 + b))) = true := by decide +kernel
theorem so_row (a b : Nat) (h : rowAB a b) : soZ ((a * 256 + b : Nat) : Int) = rowZ a b := by
  unfold rowAB at h
  have h1 := List.all_eq_true.1 so_all (a - 161) (List.mem_range.2 (by omega))
  have h2 := List.all_eq_true.1 h1 (b - 161) (List.mem_range.2 (by omega))
  rw [show 161 + (a - 161) = a from by omega, show 161 + (b - 161) = b from by omega] at h2
  rcases Bool.or_eq_true_iff.1 h2 with h3 | h3
  · rw [Bool.and_eq_true_iff, decide_eq_true_iff, decide_eq_true_iff] at h3
    omega
  · exact eq_of_beq h3
theorem signW_row (a b : Nat) (h : rowAB a b) : signW a b = rowZ a b := by
  unfold rowAB at h
  have hs : secZ b = (b : Int) - 129 + 52 := by unfold secZ; rw [if_neg (by omega), if_neg (by omega), if_pos (by omega)]
  unfold signW
  rw [if_neg (by omega), if_neg (by omega), if_neg (by omega), if_neg (by omega)]
theorem exZ_row (a b : Nat) (h : rowAB a b) : exZ a b < 0 := by
  unfold rowAB at h
  have hs : secZ b = (b : Int) - 129 + 52 := by unfold secZ; rw [if_neg (by omega), if_neg (by omega), if_pos (by omega)]
  unfold exZ
  split
  · omega
  · split
    · omega
    · split <;> omega
set_option maxRecDepth 100000 in
set_option maxHeartbeats 1000000 in
theorem sign_told (u v : UInt8) (w : World) (hT : Tab7 w) (h : rowAB u.toNat v.toNat) : Calls Tryz.prog 109 #[.int .u8 u.toNat, .int .u8 v.toNat] w fun e w' => e = .returned (.tuple #[.int .i32 (signW u.toNat v.toNat), .bool (decide (signW u.toNat v.toNat ≠ 0))]) ∧ Ext w w' := by
  have ha := u.toNat_lt
  have hb := v.toNat_lt
  generalize u.toNat = a at ha h ⊢
  generalize v.toNat = b at hb h ⊢
  have HT := Lib.hid hT
  clear hT
  have ha2 : (a : Int) ≤ 255 := by omega
  have hb2 : (b : Int) ≤ 255 := by omega
  have hx := exZ_row a b h
  have HX := Lib.hid (fun w => cextra_no a b w (by omega) ha2 (by omega) hb2 hx)
  have HO := Lib.hid (fun w => wsign_of ((a * 256 + b : Nat) : Int) w (by omega) (by omega))
  rw [so_row a b h] at HO
  rw [signW_row a b h]
  have hor := or_i64_nat a b ha hb
  unfold rowAB at h
  obtain ⟨g1, g2, g3, g4, g5⟩ := h
  have HC := Lib.hid (fun w => ccell_yes a b w (by omega) (by omega) (by omega) (by omega))
  obtain ⟨x, hxx⟩ : ∃ x, x = ((a : Int) - 161) * 94 + (b : Int) - 161 := ⟨_, rfl⟩
  rw [← hxx] at HC
  have h6 : ¬ (0 ≤ x - 1410 ∧ x - 1410 < 2350) := by omega
  have h7 : 0 ≤ x := by omega
  have h8 : x < 9000 := by omega
  have HP := Lib.hid (fun w hT => place_at (x - 1410) w hT)
  rw [decide_eq_false h6] at HP
  generalize kthZ true (x - 1410) = r at HP
  generalize rowZ a b = p at HO ⊢
  generalize decide (p ≠ 0) = d at HO ⊢
  have hwa : ((a : Int) * 256) < 65536 := by omega
  generalize ((a * 256 + b : Nat) : Int) = q at HO hor
  clear hx hxx h6 g1 g2 g3 g4 g5
  go_enter Tryz.func109, Tryz.ntmps109
  go_wp2_with (first
    | (go_at_call 141; refine (HX.out _).mono ?_; rintro e w1 ⟨rfl, rfl⟩)
    | (go_at_call 143; refine (HC.out _).mono ?_; rintro e w1 ⟨rfl, rfl⟩)
    | (go_at_call 144; refine (HP.out _ HT.out).mono ?_; rintro e w2 ⟨rfl, hb1⟩)
    | (go_at_call 145; refine (HO.out _).mono ?_; rintro e w3 ⟨rfl, hb2⟩))
  go_ret2
  exact ⟨rfl, hb1.trans hb2⟩
/-- The sign of any two bytes. -/
theorem wan_sign (u v : UInt8) (w : World) (hT : Tab7 w) : Calls Tryz.prog 109 #[.int .u8 u.toNat, .int .u8 v.toNat] w fun e w' => e = .returned (.tuple #[.int .i32 (signW u.toNat v.toNat), .bool (decide (signW u.toNat v.toNat ≠ 0))]) ∧ Ext w w' := by
  by_cases h : rowAB u.toNat v.toNat
  · exact sign_told u v w hT h
  · exact sign_syl u v w hT h
end Go.Proofs.YtndopjmdpmkgeaaGreatDoor

