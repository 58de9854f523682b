/-
  What the proof of this claim leans on (S37).
-/
import Derived.Test.YtndopjmdpmkgeaaGreatDoorS2
import Derived.Test.YtndopjmdpmkgeaaGreatDoorS14
import Derived.Test.YtndopjmdpmkgeaaGreatDoorS25
namespace Go.Proofs.YtndopjmdpmkgeaaGreatDoor
open Go Go.ChangeShapes Go.WideShapes Go.ChangeAt Go.RowKit
set_option linter.unusedSimpArgs false
set_option linter.unusedVariables false

theorem toList_inj9 {a b : ByteArray} (h : a.toList = b.toList) : a = b := by
  rw [ByteArray.toList_eq, ByteArray.toList_eq] at h
  apply ByteArray.ext
  apply Array.ext'
  exact h
/-- What the variable holds. -/
def nmL : List Value := (List.range 22).flatMap fun j => [.string (nmS j), .int .i64 (nmC j)]
def Tab9 (w : World) : Prop := w.rangeAt 0 0 nmL
theorem Tab9.ext {w w' : World} (h : Tab9 w) (k : Ext w w') : Tab9 w' := fun j v hj => (World.cell?_of_block (k.block _ (World.block_lt_of_cell? w _ (h j v hj)))).trans (h j v hj)
theorem load_names (w : World) (h : Tab9 w) : (loadVar 87 ⟨0, 0, none⟩).run Tryz.prog w = .ok (.agg nmL.toArray) w :=
  run_loadVar_mid w _ 0 _ nmL _ h Tryz.underlying87 rfl (by kernel_rfl)
theorem at_name (i : Nat) (hi : i < 22) (w : World) : (Instr.index 87 (.agg nmL.toArray) (.int .i64 i)).run Tryz.prog w = .ok (.agg #[.string (nmS i), .int .i64 (nmC i)]) w := by
  have : i = 0 ∨ i = 1 ∨ i = 2 ∨ i = 3 ∨ i = 4 ∨ i = 5 ∨ i = 6 ∨ i = 7 ∨ i = 8 ∨ i = 9 ∨ i = 10 ∨ i = 11 ∨ i = 12 ∨ i = 13 ∨ i = 14 ∨ i = 15 ∨ i = 16 ∨ i = 17 ∨ i = 18 ∨ i = 19 ∨ i = 20 ∨ i = 21 := by omega
  rcases this with rfl | rfl | rfl | rfl | rfl | rfl | rfl | rfl | rfl | rfl | rfl | rfl | rfl | rfl | rfl | rfl | rfl | rfl | rfl | rfl | rfl | rfl
  all_goals
    clear hi
    show _ = _
    kernel_rfl
theorem legacy_any (c : Int) (w : World) : Calls Tryz.prog 22 #[.int .i64 c] w fun e w' => e = .returned (.bool (decide (0 ≤ c ∧ c ≤ 6))) ∧ w = w' := by
  by_cases h0 : 0 ≤ c
  · by_cases h1 : c ≤ 6
    · rw [decide_eq_true ⟨h0, h1⟩]
      go_enter Tryz.func22, Tryz.ntmps22
      go_wp2
      go_ret
      exact ⟨rfl, rfl⟩
    · rw [decide_eq_false (fun h => h1 h.2)]
      go_enter Tryz.func22, Tryz.ntmps22
      go_wp2
      go_ret
      exact ⟨rfl, rfl⟩
  · rw [decide_eq_false (fun h => h0 h.1)]
    go_enter Tryz.func22, Tryz.ntmps22
    go_wp2
    go_ret
    exact ⟨rfl, rfl⟩
theorem small_any (x : Int) (w : World) (h0 : 0 ≤ x) (h1 : x ≤ 1114111) : Calls Tryz.prog 51 #[.int .i32 x] w fun e w' => e = .returned (.int .i32 (small9 x)) ∧ w = w' := by
  unfold small9
  by_cases c0 : 65 ≤ x
  · by_cases c1 : x ≤ 90
    · rw [if_pos ⟨c0, c1⟩]
      go_enter Tryz.func51, Tryz.ntmps51
      go_wp2
      go_ret
      exact ⟨by rw [show x + 32 = x - 65 + 97 from by omega]; rfl, rfl⟩
    · rw [if_neg (fun h => c1 h.2)]
      go_enter Tryz.func51, Tryz.ntmps51
      go_wp2
      go_ret
      exact ⟨rfl, rfl⟩
  · rw [if_neg (fun h => c0 h.1)]
    go_enter Tryz.func51, Tryz.ntmps51
    go_wp2
    go_ret
    exact ⟨rfl, rfl⟩
/-- The charset of a name; 0: there is none. -/
def num9 (l : ByteArray) : Int := if named9 l 10 0 < 0 then 0 else named9 l 10 0
set_option maxRecDepth 100000 in
set_option maxHeartbeats 1000000 in
/-- The charset of a name. -/
theorem named_any (l : ByteArray) (w : World) (hT : Tabs w) (hT9 : Tab9 w) (hl : l.size ≤ 1000000) : Calls Tryz.prog 32 #[.string l] w fun e w' => e = .returned (.tuple #[.int .i64 (num9 l), .bool (decide (0 ≤ named9 l 10 0))]) ∧ Ext w w' := by
  have HL : Hid (∀ w2, Ext w w2 → (loadVar 87 ⟨0, 0, none⟩).run Tryz.prog w2 = .ok (.agg nmL.toArray) w2) := fun w2 x => load_names w2 (hT9.ext x)
  obtain ⟨C, hC⟩ : ∃ C, C = nmL.toArray := ⟨_, rfl⟩
  have HX := Lib.hid (fun i hi w => at_name i hi w)
  rw [← hC] at HX HL
  clear hC
  have HM : Hid (Calls Tryz.prog 50 #[.func (.func 51) #[] #[], .string l] w fun e w' => e = .returned (.string (small l)) ∧ Ext w w') := by
    exact Tryz.strings_Map_grows 51 #[] (fun args w => by kernel_rfl) small9 l w (by omega) (fun W x hx _ => (small_any x W (by omega) (by omega)).mono fun e w' ⟨h1, h2⟩ => ⟨h1, h2 ▸ Ext.refl _⟩) (fun x hx => by unfold small9; split <;> omega) hT
  obtain ⟨R, hR⟩ : ∃ R : Int × Bool, R = (num9 l, decide (0 ≤ named9 l 10 0)) := ⟨_, rfl⟩
  have HHit : Hid (∀ j, j < 22 → nmS j = small l → R = ((nmC j : Int), true)) := fun j hj h => by
    rw [hR]
    unfold num9
    rw [named_hit l j hj ((nm_same l j hj).1 h), if_neg (by omega), decide_eq_true (by omega)]
  have HMiss : Hid ((∀ j, j < 22 → nmS j ≠ small l) → R = (0, false)) := fun h => by
    have h2 := named_miss l fun j hj => by
      have h1 := h j hj
      cases e : same9 l (nmS j) with
      | false => rfl
      | true => exact absurd ((nm_same l j hj).2 e) h1
    rw [hR]
    unfold num9
    rw [h2]
    rfl
  rw [show num9 l = R.1 from by rw [hR], show decide (0 ≤ named9 l 10 0) = R.2 from by rw [hR]]
  clear hR hT hT9
  generalize small l = m at HM HHit HMiss
  go_enter Tryz.func32, Tryz.ntmps32
  go_wp2_with (first
    | (go_at_call 50; refine HM.out.mono ?_; rintro e w1 ⟨rfl, hb1⟩)
    | (refine wpList_load_known rfl 87 _ rfl 0 (.agg C) rfl (HL.out _ hb1) ?_))
  clear HL HM
  go_loopw [10] (fun v wr => ∃ i : Nat, i ≤ 22 ∧ v = .int .i64 i ∧ Ext w wr ∧ Hid (∀ j, j < i → nmS j ≠ m)) (fun v _ => 22 - (intOf v).toNat)
  case atStart => exact ⟨0, by omega, rfl, hb1, fun j h => absurd h (by omega)⟩
  case round =>
    obtain ⟨i, hi, rfl, hx, HJ⟩ := hrel
    by_cases hlt : i < 22
    · have hli : (i : Int) < 22 := by omega
      have hix := fun w2 => HX.out i hlt w2
      have hb := nm_bd i
      have HH := Lib.hid (HHit.out i hlt)
      have HK : Hid (nmS i ≠ m → ∀ j, j < i + 1 → nmS j ≠ m) := fun h j hj => by
        by_cases e : j = i
        · subst e; exact h
        · exact HJ.out j (by omega)
      clear HHit HMiss HJ HX
      generalize nmC i = k at hix hb HH
      generalize nmS i = t at hix HH HK
      have hbi : (k : Int) < 10 := by omega
      have hBn := heap_alloc_new wr (.cells #[.string t, .int .i64 (k : Int)] 86)
      have hxn := hx.alloc (.cells #[.string t, .int .i64 (k : Int)] 86)
      obtain ⟨⟨d0, d1⟩, _⟩ := facts2 hBn
      by_cases hin : t = m
      · have es := Lib.hid (HH.out hin)
        have hg : (t.toList == m.toList) = true := by rw [hin]; exact beq_self_eq_true _
        clear HH HK hin hBn
        go_wp2
        go_ret2
        exact ⟨by rw [es.out]; rfl, hxn⟩
      · have HF := Lib.hid (HK.out hin)
        have hg : (t.toList == m.toList) = false := beq_false_of_ne (fun e => hin (toList_inj9 e))
        clear HH HK hin hBn
        go_wp2
        go_roundw
        case rel => exact ⟨i + 1, by omega, by go_num, hxn, HF⟩
        case measure => simp [intOf]; omega
    · have hie : i = 22 := by omega
      subst hie
      have es := Lib.hid (HMiss.out HJ.out)
      clear HHit HMiss HJ HX
      go_wp2
      go_ret2
      exact ⟨by rw [es.out]; rfl, hx⟩
end Go.Proofs.YtndopjmdpmkgeaaGreatDoor

