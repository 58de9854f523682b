/-
  The document's signs of a text; a fault by a place.
-/
import Derived.Test.YtealeedbkjiabaaDoorPtAt2
namespace Go.Proofs.YtealeedbkjiabaaDoor
open Go Go.ChangeShapes Go.WideShapes Go.ChangeAt Go.RowKit
set_option linter.unusedSimpArgs false
set_option linter.unusedVariables false

theorem own_ext {w w' : World} {B : Nat} {e : TypeId} {size : Nat} {v : Value} {n : Nat} {xs : List Value} (h : w.ownsRow B e size v n xs) (k : Ext w w') : w'.ownsRow B e size v n xs :=
  h.kept (row := none) ⟨k.os, k.tape, k.output, k.size, fun i hi _ => k.block i hi⟩ (by
    cases hv : v.ownBlock with
    | none => exact .inl rfl
    | some g => exact .inr (by simp))
theorem lawfault_no (a : Int) (h : a < 0) (w : World) : Calls Tryd.prog 34 #[.int .i64 a] w fun e w' => e = .returned (.agg #[.int .i64 0, .int .i64 0]) ∧ Ext w w' := by
  go_enter Tryd.func34, Tryd.ntmps34
  go_wp2
  exact bodyPost_ret (v := .agg #[.int .i64 0, .int .i64 0]) (by simp [results, Tryd.results34, go_sem]) rfl ⟨rfl, (by repeat (first | exact Ext.refl _ | apply Ext.drew | refine Ext.alloc ?_ _ | refine Ext.setCell ?_ (by simp) _))⟩
theorem lawfault_yes (a : Int) (h : ¬ a < 0) (w : World) : Calls Tryd.prog 34 #[.int .i64 a] w fun e w' => e = .returned (.agg #[.int .i64 2, .int .i64 a]) ∧ Ext w w' := by
  go_enter Tryd.func34, Tryd.ntmps34
  go_wp2
  exact bodyPost_ret (v := .agg #[.int .i64 2, .int .i64 a]) (by simp [results, Tryd.results34, go_sem]) rfl ⟨rfl, (by repeat (first | exact Ext.refl _ | apply Ext.drew | refine Ext.alloc ?_ _ | refine Ext.setCell ?_ (by simp) _))⟩
theorem rat_bad (s : ByteArray) (i : Nat) (w : World) (hi : i < s.size) (hs : s.size ≤ 1099511627776) (h : (Lib.decodeL (s.data.toList.drop i)).1 = 65533 ∧ (Lib.decodeL (s.data.toList.drop i)).2 = 1) :
    Calls Tryd.prog 59 #[.string s, .int .i64 i] w fun e w' => e = .returned (.tuple #[.int .i32 0, .int .i64 0]) ∧ Ext w w' := by
  have := rat_any s i w hi hs
  have e : atR (s.data.toList.drop i) = (0, 0) := by unfold atR; rw [if_pos h]
  rwa [e] at this
theorem rat_ok (s : ByteArray) (i : Nat) (w : World) (hi : i < s.size) (hs : s.size ≤ 1099511627776) (h : ¬ ((Lib.decodeL (s.data.toList.drop i)).1 = 65533 ∧ (Lib.decodeL (s.data.toList.drop i)).2 = 1)) :
    Calls Tryd.prog 59 #[.string s, .int .i64 i] w fun e w' => e = .returned (.tuple #[.int .i32 (Lib.decodeL (s.data.toList.drop i)).1, .int .i64 (Lib.decodeL (s.data.toList.drop i)).2]) ∧ Ext w w' := by
  have := rat_any s i w hi hs
  have e : atR (s.data.toList.drop i) = (((Lib.decodeL (s.data.toList.drop i)).1 : Int), ((Lib.decodeL (s.data.toList.drop i)).2 : Int)) := by unfold atR; rw [if_neg h]
  rwa [e] at this
set_option maxRecDepth 100000 in
set_option maxHeartbeats 2000000 in
theorem rpoints_ok (s : ByteArray) (w : World) (hs : s.size ≤ 1099511627776) (hb : badS s < 0) :
    Calls Tryd.prog 33 #[.string s] w fun e w' => ∃ a cap, e = .returned (.tuple #[.slice a (runesL s.data.toList).length cap, .int .i64 (-1)]) ∧ IsRow w' a (runesL s.data.toList).length cap (runesL s.data.toList) ∧ Ext w w' := by
  obtain ⟨i0, hi, hz0, hz1, hz2⟩ := info_parts_i32
  obtain ⟨zs, hzs⟩ : ∃ zs, zs = runesL s.data.toList := ⟨_, rfl⟩
  obtain ⟨bb, hbb⟩ : ∃ bb, bb = badS s := ⟨_, rfl⟩
  try rw [← hzs]
  rw [← hbb] at hb
  try rw [← hbb]
  have HZ := Lib.hid hzs
  have HBB := Lib.hid hbb
  have HB := Lib.hid hb
  clear hzs hbb hb
  go_enter Tryd.func33, Tryd.ntmps33
  go_wp2
  go_loopw [4, 5] (fun v i wr => ∃ (k : Nat) (dn : List Int), k ≤ s.size ∧ i = .int .i64 k ∧ Ext w wr ∧ Hid (dn ++ runesL (s.data.toList.drop k) = zs) ∧ Hid (badL k (s.data.toList.drop k) = bb) ∧ wr.ownsRow w.heap.size 21 1 v dn.length (runeCellsOf dn) ∧ dn.length ≤ k) (fun _ i _ => s.size - (intOf i).toNat)
  case atStart => exact ⟨0, [], by omega, rfl, Ext.refl _, HZ.out.symm, HBB.out.symm, World.ownsRow_nil _ _ _ _, by decide⟩
  case round =>
    obtain ⟨k, dn, hk, rfl, hx, HS, HL, hown, hdk⟩ := hrel
    by_cases hlt : k < s.size
    · have hne := drop_ne hlt
      have hrs := runesL_step _ hne
      have hbs := badL_step k _ hne
      have hqw := Lib.decodeL_width (s.data.toList.drop k)
      have hql := Lib.decodeL_le _ hne
      rw [List.length_drop, show s.data.toList.length = s.size from rfl] at hql
      rw [List.drop_drop] at hrs hbs
      by_cases hbd : (Lib.decodeL (s.data.toList.drop k)).1 = 65533 ∧ (Lib.decodeL (s.data.toList.drop k)).2 = 1
      · rw [if_pos hbd, HL.out] at hbs
        have := HB.out
        exfalso
        omega
      · have HA : Hid (∀ w, Calls Tryd.prog 59 #[.string s, .int .i64 k] w fun e w' => e = .returned (.tuple #[.int .i32 (Lib.decodeL (s.data.toList.drop k)).1, .int .i64 (Lib.decodeL (s.data.toList.drop k)).2]) ∧ Ext w w') := fun w => rat_ok s k w hlt hs hbd
        rw [if_neg hbd] at hbs
        have HRS := Lib.hid hrs
        have HBS := Lib.hid hbs
        clear hrs hbs hbd hne
        generalize (Lib.decodeL (s.data.toList.drop k)).1 = p at HA HRS
        generalize (Lib.decodeL (s.data.toList.drop k)).2 = q at HA HRS HBS hqw hql
        have hq1 : ¬ ((q : Int) = 0) := by omega
        have hq2 : ((q : Int) == 0) = false := by simpa using hq1
        go_wp2_with (first
          | (go_at_call 59; refine (HA.out _).mono ?_; rintro e w1 ⟨rfl, hb1⟩; have hown2 := own_ext hown hb1; have hx1 := hx.trans hb1)
          | (at_builtin; refine wpList_append_own _ rfl _ _ 65 rfl w.heap.size 21 i0 (.int .i32 0) 1 4 Tryd.underlying65 hi hz0 hz1 hz2 rfl (by decide) _ _ _ rfl (hown2.alloc _) ⟨w1.heap.size, 0, none⟩ 1 1 [.int .i32 (p : Int)] rfl rfl (cell_one_new _ _ _) (fun x hx => by simp at hx; subst hx; rfl) (by unfold maxLen; omega) (by omega) (by have := hx1.size; simp; omega) ?_; intro v' w3 hown' hgrow3 hnil3
             have hx3 : Ext w w3 := Ext.own hx1 hown2 (Nat.le_refl _) hgrow3
             clear hgrow3 hnil3))
        go_roundw
        case rel =>
          refine ⟨k + q, dn ++ [(p : Int)], by omega, by go_num, hx3, ?_, ?_, ?_, by rw [List.length_append]; show dn.length + 1 ≤ k + q; omega⟩
          · show _ = zs
            rw [← HS.out, HRS.out, List.append_assoc]
            rfl
          · show _ = bb
            rw [← HL.out, HBS.out]
          · have e : runeCellsOf (dn ++ [(p : Int)]) = runeCellsOf dn ++ [.int .i32 (p : Int)] := by simp [runeCellsOf]
            rw [e, List.length_append]
            exact hown'
        case measure => simp [intOf]; omega
    · have e0 : s.data.toList.drop k = [] := List.drop_eq_nil_of_le (by have e2 : s.data.toList.length = s.size := rfl; omega)
      have h1 := HS.out
      have h2 := HL.out
      rw [e0, runesL_nil, List.append_nil] at h1
      rw [e0, badL_nil] at h2
      subst h1
      clear h2 HL HB HBB
      obtain ⟨a, cap, rfl, hrow⟩ := own_row hown
      have HRW := Lib.hid hrow
      clear hrow hown
      go_wp2
      go_ret2
      exact ⟨a, cap, rfl, HRW.out, hx⟩
set_option maxRecDepth 100000 in
set_option maxHeartbeats 2000000 in
theorem rpoints_bad (s : ByteArray) (w : World) (hs : s.size ≤ 1099511627776) (hb : ¬ badS s < 0) :
    Calls Tryd.prog 33 #[.string s] w fun e w' => e = .returned (.tuple #[.slice none 0 0, .int .i64 (badS s)]) ∧ Ext w w' := by
  obtain ⟨i0, hi, hz0, hz1, hz2⟩ := info_parts_i32
  obtain ⟨zs, hzs⟩ : ∃ zs, zs = runesL s.data.toList := ⟨_, rfl⟩
  obtain ⟨bb, hbb⟩ : ∃ bb, bb = badS s := ⟨_, rfl⟩
  try rw [← hzs]
  rw [← hbb] at hb
  try rw [← hbb]
  have HZ := Lib.hid hzs
  have HBB := Lib.hid hbb
  have HB := Lib.hid hb
  clear hzs hbb hb
  go_enter Tryd.func33, Tryd.ntmps33
  go_wp2
  go_loopw [4, 5] (fun v i wr => ∃ (k : Nat) (dn : List Int), k ≤ s.size ∧ i = .int .i64 k ∧ Ext w wr ∧ Hid (dn ++ runesL (s.data.toList.drop k) = zs) ∧ Hid (badL k (s.data.toList.drop k) = bb) ∧ wr.ownsRow w.heap.size 21 1 v dn.length (runeCellsOf dn) ∧ dn.length ≤ k) (fun _ i _ => s.size - (intOf i).toNat)
  case atStart => exact ⟨0, [], by omega, rfl, Ext.refl _, HZ.out.symm, HBB.out.symm, World.ownsRow_nil _ _ _ _, by decide⟩
  case round =>
    obtain ⟨k, dn, hk, rfl, hx, HS, HL, hown, hdk⟩ := hrel
    by_cases hlt : k < s.size
    · have hne := drop_ne hlt
      have hrs := runesL_step _ hne
      have hbs := badL_step k _ hne
      have hqw := Lib.decodeL_width (s.data.toList.drop k)
      have hql := Lib.decodeL_le _ hne
      rw [List.length_drop, show s.data.toList.length = s.size from rfl] at hql
      rw [List.drop_drop] at hrs hbs
      by_cases hbd : (Lib.decodeL (s.data.toList.drop k)).1 = 65533 ∧ (Lib.decodeL (s.data.toList.drop k)).2 = 1
      · rw [if_pos hbd, HL.out] at hbs
        have HA : Hid (∀ w, Calls Tryd.prog 59 #[.string s, .int .i64 k] w fun e w' => e = .returned (.tuple #[.int .i32 0, .int .i64 0]) ∧ Ext w w') := fun w => rat_bad s k w hlt hs hbd
        have HK := Lib.hid hbs
        clear hbs hrs hbd hqw hql hne
        go_wp2_with (go_at_call 59; refine (HA.out _).mono ?_; rintro e w1 ⟨rfl, hb1⟩)
        go_ret2
        exact ⟨by rw [HK.out]; rfl, hx.trans hb1⟩
      · have HA : Hid (∀ w, Calls Tryd.prog 59 #[.string s, .int .i64 k] w fun e w' => e = .returned (.tuple #[.int .i32 (Lib.decodeL (s.data.toList.drop k)).1, .int .i64 (Lib.decodeL (s.data.toList.drop k)).2]) ∧ Ext w w') := fun w => rat_ok s k w hlt hs hbd
        rw [if_neg hbd] at hbs
        have HRS := Lib.hid hrs
        have HBS := Lib.hid hbs
        clear hrs hbs hbd hne
        generalize (Lib.decodeL (s.data.toList.drop k)).1 = p at HA HRS
        generalize (Lib.decodeL (s.data.toList.drop k)).2 = q at HA HRS HBS hqw hql
        have hq1 : ¬ ((q : Int) = 0) := by omega
        have hq2 : ((q : Int) == 0) = false := by simpa using hq1
        go_wp2_with (first
          | (go_at_call 59; refine (HA.out _).mono ?_; rintro e w1 ⟨rfl, hb1⟩; have hown2 := own_ext hown hb1; have hx1 := hx.trans hb1)
          | (at_builtin; refine wpList_append_own _ rfl _ _ 65 rfl w.heap.size 21 i0 (.int .i32 0) 1 4 Tryd.underlying65 hi hz0 hz1 hz2 rfl (by decide) _ _ _ rfl (hown2.alloc _) ⟨w1.heap.size, 0, none⟩ 1 1 [.int .i32 (p : Int)] rfl rfl (cell_one_new _ _ _) (fun x hx => by simp at hx; subst hx; rfl) (by unfold maxLen; omega) (by omega) (by have := hx1.size; simp; omega) ?_; intro v' w3 hown' hgrow3 hnil3
             have hx3 : Ext w w3 := Ext.own hx1 hown2 (Nat.le_refl _) hgrow3
             clear hgrow3 hnil3))
        go_roundw
        case rel =>
          refine ⟨k + q, dn ++ [(p : Int)], by omega, by go_num, hx3, ?_, ?_, ?_, by rw [List.length_append]; show dn.length + 1 ≤ k + q; omega⟩
          · show _ = zs
            rw [← HS.out, HRS.out, List.append_assoc]
            rfl
          · show _ = bb
            rw [← HL.out, HBS.out]
          · have e : runeCellsOf (dn ++ [(p : Int)]) = runeCellsOf dn ++ [.int .i32 (p : Int)] := by simp [runeCellsOf]
            rw [e, List.length_append]
            exact hown'
        case measure => simp [intOf]; omega
    · have e0 : s.data.toList.drop k = [] := List.drop_eq_nil_of_le (by have e2 : s.data.toList.length = s.size := rfl; omega)
      have h1 := HS.out
      have h2 := HL.out
      rw [e0, runesL_nil, List.append_nil] at h1
      rw [e0, badL_nil] at h2
      exfalso
      have := HB.out
      omega
end Go.Proofs.YtealeedbkjiabaaDoor
