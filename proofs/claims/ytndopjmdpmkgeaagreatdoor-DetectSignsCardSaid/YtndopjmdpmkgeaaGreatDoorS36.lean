/-
  What the proof of this claim leans on (S36).
-/
import Derived.Test.YtndopjmdpmkgeaaGreatDoorS12
import Derived.Test.YtndopjmdpmkgeaaGreatDoorS24
import Derived.Test.YtndopjmdpmkgeaaGreatDoorS26
import Derived.Test.YtndopjmdpmkgeaaGreatDoorS33
import Derived.Test.YtndopjmdpmkgeaaGreatDoorS35
import Derived.Deep.RegionWith
import Derived.Lib.AppendStr
namespace Go.Proofs.YtndopjmdpmkgeaaGreatDoor
open Go Go.ChangeShapes Go.WideShapes Go.ChangeAt Go.RowKit
set_option linter.unusedSimpArgs false
set_option linter.unusedVariables false

/-- What the program's variables hold, of all layers up to this one but names. -/
structure TabD (w : World) : Prop where
  t : Tabs w
  t7 : Tab7 w
  t8 : Tab8 w
theorem TabD.ext {w w' : World} (h : TabD w) (k : Ext w w') : TabD w' := ⟨h.t.ext k, h.t7.ext k, h.t8.ext k⟩
theorem one_sign (p : Int) (hs : p ≠ 0 → isSign p = true) (w : World) : Calls Tryz.prog 152 #[.int .i32 p, .bool (decide (p ≠ 0))] w fun e w' => e = .returned (.tuple #[.string (txt9 p), .bool (decide (p ≠ 0))]) ∧ Ext w w' := by
  by_cases h : p = 0
  · subst h
    rw [decide_eq_false (by simp), txt9_none]
    go_enter Tryz.func152, Tryz.ntmps152
    go_wp2
    go_ret2
    exact ⟨rfl, Ext.refl _⟩
  · have h1 := hs h
    have HT := Lib.hid (fun w => text_one p w)
    have e1 : allSigns [p] = true := by simp [allSigns, h1]
    have e2 : textOut [p] = txt9 p := by
      rw [textOut_yes e1]
      unfold txt9
      rw [if_neg h, encs_one]
      rfl
    rw [e1, e2] at HT
    have hb := (isSign_iff p).1 h1
    have h0 : 0 ≤ p := by omega
    have h2 : p ≤ 1114111 := by omega
    rw [decide_eq_true h]
    generalize txt9 p = t at HT ⊢
    clear e1 e2 hb h1 hs h
    go_enter Tryz.func152, Tryz.ntmps152
    go_wp2_with (go_at_call 76; refine (HT.out _).mono ?_; rintro e w1 ⟨rfl, hb1⟩)
    go_ret2
    exact ⟨rfl, hb1⟩
set_option maxRecDepth 100000 in
set_option maxHeartbeats 1000000 in
/-- The text of any two bytes. -/
theorem signs_of (c : Nat) (u v : UInt8) (w : World) (hc : c = 4 ∨ c = 5 ∨ c = 6) (hT : TabD w) :
    Calls Tryz.prog 113 #[.int .i64 c, .int .u8 u.toNat, .int .u8 v.toNat] w fun e w' => e = .returned (.tuple #[.string (sg9 c u.toNat v.toNat), .bool (decide ((sg9 c u.toNat v.toNat).size ≠ 0))]) ∧ Ext w w' := by
  have hu := u.toNat_lt
  have hv := v.toNat_lt
  rcases hc with rfl | rfl | rfl
  · have e : sg9 4 u.toNat v.toNat = txt9 (signW u.toNat v.toNat) := rfl
    have hz : (signW u.toNat v.toNat ≠ 0) → isSign (signW u.toNat v.toNat) = true := fun h => signW_sign _ _ hu hv h
    have HS := Lib.hid (fun w hT => wan_sign u v w hT)
    have HO := Lib.hid (fun w => one_sign (signW u.toNat v.toNat) hz w)
    have ed : decide (signW u.toNat v.toNat ≠ 0) = decide ((txt9 (signW u.toNat v.toNat)).size ≠ 0) := by
      by_cases h : signW u.toNat v.toNat = 0
      · rw [h, txt9_none]; rfl
      · rw [decide_eq_true h, decide_eq_true (txt9_some h (hz h))]
    rw [e, ← ed]
    have HT7 := Lib.hid hT.t7
    clear e ed hz hT
    generalize txt9 (signW u.toNat v.toNat) = t at HO ⊢
    generalize signW u.toNat v.toNat = p at HS HO ⊢
    generalize decide (p ≠ 0) = d at HS HO ⊢
    have hu2 : (u.toNat : Int) ≤ 255 := by omega
    have hv2 : (v.toNat : Int) ≤ 255 := by omega
    generalize u.toNat = a at HS hu hu2
    generalize v.toNat = b at HS hv hv2
    go_enter Tryz.func113, Tryz.ntmps113
    go_wp2_with (first
      | (go_at_call 109; refine (HS.out _ HT7.out).mono ?_; rintro e w1 ⟨rfl, hb1⟩)
      | (go_at_call 152; refine (HO.out _).mono ?_; rintro e w2 ⟨rfl, hb2⟩))
    go_ret2
    exact ⟨rfl, hb1.trans hb2⟩
  · have e : sg9 5 u.toNat v.toNat = txt9 (signJ (u.toNat * 256 + v.toNat)) := rfl
    have hz : (signJ (u.toNat * 256 + v.toNat) ≠ 0) → isSign (signJ (u.toNat * 256 + v.toNat)) = true := fun h => signJ_sign _ (by omega) h
    have HS : Hid (∀ w, Calls Tryz.prog 107 #[.int .u8 u.toNat, .int .u8 v.toNat] w fun e w' => e = .returned (.tuple #[.int .i32 (signJ (u.toNat * 256 + v.toNat)), .bool (decide (signJ (u.toNat * 256 + v.toNat) ≠ 0))]) ∧ Ext w w') := fun w => (sign_u u v w).mono fun e w' ⟨h1, h2⟩ => ⟨by
      rw [h1]
      unfold nz
      by_cases h : signJ (u.toNat * 256 + v.toNat) = 0
      · rw [h]; rfl
      · rw [decide_eq_true h, beq_false_of_ne h]; rfl, h2⟩
    have HO := Lib.hid (fun w => one_sign (signJ (u.toNat * 256 + v.toNat)) hz w)
    have ed : decide (signJ (u.toNat * 256 + v.toNat) ≠ 0) = decide ((txt9 (signJ (u.toNat * 256 + v.toNat))).size ≠ 0) := by
      by_cases h : signJ (u.toNat * 256 + v.toNat) = 0
      · rw [h, txt9_none]; rfl
      · rw [decide_eq_true h, decide_eq_true (txt9_some h (hz h))]
    rw [e, ← ed]
    clear e ed hz hT
    generalize txt9 (signJ (u.toNat * 256 + v.toNat)) = t at HO ⊢
    generalize signJ (u.toNat * 256 + v.toNat) = p at HS HO ⊢
    generalize decide (p ≠ 0) = d at HS HO ⊢
    have hu2 : (u.toNat : Int) ≤ 255 := by omega
    have hv2 : (v.toNat : Int) ≤ 255 := by omega
    generalize u.toNat = a at HS hu hu2
    generalize v.toNat = b at HS hv hv2
    go_enter Tryz.func113, Tryz.ntmps113
    go_wp2_with (first
      | (go_at_call 107; refine (HS.out _).mono ?_; rintro e w1 ⟨rfl, hb1⟩)
      | (go_at_call 152; refine (HO.out _).mono ?_; rintro e w2 ⟨rfl, hb2⟩))
    go_ret2
    exact ⟨rfl, hb1.trans hb2⟩
  · have e : sg9 6 u.toNat v.toNat = sigT u.toNat v.toNat := rfl
    have HS := Lib.hid (fun w hT => big_signs u v w hT)
    rw [sigT_none] at HS
    rw [e]
    have HT8 := Lib.hid hT.t8
    clear e hT
    generalize sigT u.toNat v.toNat = t at HS ⊢
    generalize decide (t.size ≠ 0) = d at HS ⊢
    have hu2 : (u.toNat : Int) ≤ 255 := by omega
    have hv2 : (v.toNat : Int) ≤ 255 := by omega
    generalize u.toNat = a at HS hu hu2
    generalize v.toNat = b at HS hv hv2
    go_enter Tryz.func113, Tryz.ntmps113
    go_wp2_with (go_at_call 111; refine (HS.out _ HT8.out).mono ?_; rintro e w1 ⟨rfl, hb1⟩)
    go_ret2
    exact ⟨rfl, hb1⟩
/-- A byte below 128 is the sign of its number. -/
theorem ahead_low (c : Int) (x : ByteArray) (w : World) (h : 0 < x.size) (hz : x.size ≤ 1000000) (hb : x[0].toNat < 128) :
    Calls Tryz.prog 65 #[.int .i64 c, .string x] w fun e w' => e = .returned (.tuple #[.string (x.extract 0 1), .int .i64 1]) ∧ Ext w w' := by
  have hi : (0 : Int) < x.size := by omega
  have hb2 : (x[0].toNat : Int) < 128 := by omega
  go_enter Tryz.func65, Tryz.ntmps65
  go_wp2
  go_ret2
  exact ⟨rfl, Ext.refl _⟩
theorem ahead_left (c : Int) (x : ByteArray) (w : World) (h : x.size = 1) (hb : ¬ x[0].toNat < 128) :
    Calls Tryz.prog 65 #[.int .i64 c, .string x] w fun e w' => e = .returned (.tuple #[.string ⟨#[]⟩, .int .i64 0]) ∧ Ext w w' := by
  have hi : (0 : Int) < x.size := by omega
  have h2 : (x.size : Int) < 2 := by omega
  have hb2 : ¬ (x[0].toNat : Int) < 128 := by omega
  go_enter Tryz.func65, Tryz.ntmps65
  go_wp2
  go_ret2
  exact ⟨rfl, Ext.refl _⟩
set_option maxRecDepth 100000 in
set_option maxHeartbeats 1000000 in
/-- Two bytes: their signs, or none. -/
theorem ahead_two (c : Nat) (x : ByteArray) (w : World) (hc : c = 4 ∨ c = 5 ∨ c = 6) (hT : TabD w) (h : 1 < x.size) (hz : x.size ≤ 1000000) (hb : ¬ x[0].toNat < 128) :
    Calls Tryz.prog 65 #[.int .i64 c, .string x] w fun e w' => e = .returned (.tuple #[.string (sg9 c x[0].toNat x[1].toNat), .int .i64 (if (sg9 c x[0].toNat x[1].toNat).size = 0 then 0 else 2)]) ∧ Ext w w' := by
  have hi : (0 : Int) < x.size := by omega
  have hi1 : (1 : Int) < x.size := by omega
  have h2 : ¬ (x.size : Int) < 2 := by omega
  have hb2 : ¬ (x[0].toNat : Int) < 128 := by omega
  have HS := Lib.hid (fun w hT => signs_of c x[0] x[1] w hc hT)
  have HT := Lib.hid hT
  have hu := x[0].toNat_lt
  have hv := x[1].toNat_lt
  clear hT hb
  generalize hsg : sg9 c x[0].toNat x[1].toNat = t at HS ⊢
  have hu2 : (x[0].toNat : Int) ≤ 255 := by omega
  have hv2 : (x[1].toNat : Int) ≤ 255 := by omega
  clear hsg
  by_cases hs : t.size = 0
  · rw [decide_eq_false (by omega)] at HS
    rw [if_pos hs]
    obtain rfl := size0 hs
    go_enter Tryz.func65, Tryz.ntmps65
    go_wp2
    go_region_with (go_at_call 113; refine (HS.out _ (HT.out.ext (Ext.drew (Ext.refl _)))).mono ?_; rintro e w1 ⟨rfl, hb1⟩)
    all_goals
      go_wp2
      go_ret2
      exact ⟨rfl, (Ext.drew (Ext.refl _)).trans hb1⟩
  · rw [decide_eq_true (by omega)] at HS
    rw [if_neg hs]
    go_enter Tryz.func65, Tryz.ntmps65
    go_wp2
    go_region_with (go_at_call 113; refine (HS.out _ (HT.out.ext (Ext.drew (Ext.refl _)))).mono ?_; rintro e w1 ⟨rfl, hb1⟩)
    all_goals
      go_wp2
      go_ret2
      exact ⟨rfl, (Ext.drew (Ext.refl _)).trans hb1⟩
end Go.Proofs.YtndopjmdpmkgeaaGreatDoor

namespace Go.Proofs.YtndopjmdpmkgeaaGreatDoor
open Go Go.ChangeShapes Go.WideShapes Go.ChangeAt Go.RowKit
set_option linter.unusedSimpArgs false
set_option linter.unusedVariables false

/-- Behind a world: a fault's two cells. -/
structure Fk (w0 w : World) (b : Nat) : Prop where
  ex : Ext w0 w
  lo : w0.heap.size ≤ b
  cf : w.heap[b]? = some (.cells #[.int .i64 0, .int .i64 0] 54 (0, 0))
theorem Fk.ext {w0 w w' : World} {b : Nat} (h : Fk w0 w b) (k : Ext w w') : Fk w0 w' b := ⟨h.ex.trans k, h.lo, (k.block _ (lt_of_block h.cf)).trans h.cf⟩
theorem Fk.start (w : World) : Fk w (w.alloc (.cells #[.int .i64 0, .int .i64 0] 54)) w.heap.size := ⟨(Ext.refl w).alloc _, Nat.le_refl _, heap_alloc_new w _⟩
theorem strCells_app (a b : ByteArray) : Lib.strCells (a ++ b) = Lib.strCells a ++ Lib.strCells b := by
  rw [Lib.strCells_eq, Lib.strCells_eq, Lib.strCells_eq, ByteArray.data_append, Array.toList_append, byteCells_app]
theorem own_str {w : World} {B : Nat} {v : Value} {u : ByteArray} (h : w.ownsRow B 5 1 v u.size (Lib.strCells u)) : (convert 96 9 v).run Tryz.prog w = .ok (.string u) w := by
  rw [Lib.strCells_eq] at h
  exact own_string h
theorem fault_end {w0 w : World} {b : Nat} (h : Fk w0 w b) (x y : Value) : ∃ wf, wf = (w.setCell ⟨b, 0, none⟩ x).setCell ⟨b, 1, none⟩ y ∧ Ext w0 wf ∧ wf.cell? ⟨b, 0, none⟩ = some x ∧ wf.cell? ⟨b, 1, none⟩ = some y := by
  obtain ⟨wf, hwf, hxf, hB, _, _⟩ := put2 h.cf h.ex h.lo x y
  exact ⟨wf, hwf, hxf, (facts2 hB).1⟩
set_option maxRecDepth 100000 in
set_option maxHeartbeats 4000000 in
/-- The text of bytes in a charset of one and two bytes a sign. -/
theorem decode_mixed (c : Nat) (s : ByteArray) (w : World) (hc : c = 4 ∨ c = 5 ∨ c = 6) (hT : TabD w) (hs : s.size ≤ 100000) (T : ByteArray) (A : Int) (hd : dec9 (sg9 c) s 0 ⟨#[]⟩ = (T, A)) :
    Calls Tryz.prog 38 #[.int .i64 c, .string s] w fun e w' => e = .returned (.tuple #[.string T, .agg #[.int .i64 (code9 A), .int .i64 (at9 A)]]) ∧ Ext w w' := by
  have HD : Hid (dec9 (sg9 c) s 0 ⟨#[]⟩ = (T, A)) := hd
  have HT := Lib.hid hT
  have HL := Lib.hid (fun x w h hz hb => ahead_low (c : Int) x w h hz hb)
  have HE := Lib.hid (fun x w h hb => ahead_left (c : Int) x w h hb)
  have HS := Lib.hid (fun x w hT h hz hb => ahead_two c x w hc hT h hz hb)
  have HZ := Lib.hid (fun a b => sg9_size c a b)
  obtain ⟨f, hf⟩ : ∃ f, f = sg9 c := ⟨_, rfl⟩
  rw [← hf] at HD HS HZ
  clear hd hT hf hc
  generalize (c : Int) = z at HL HE HS
  have hF := Fk.start w
  obtain ⟨wm, hmk, hown, hgm⟩ := make_row8 s.size (by omega) (w.alloc (.cells #[.int .i64 0, .int .i64 0] 54))
  have hxm := Below.grown (Ext.refl (w.alloc (.cells #[.int .i64 0, .int .i64 0] 54))) hgm (Nat.le_refl _) (by rintro k ⟨⟩)
  replace hown := hown _ (Nat.le_refl _)
  have HF := Lib.hid hF
  have HO := Lib.hid hown
  have HXM := Lib.hid hxm
  obtain ⟨i0, hi, hz0, hz1, hz2⟩ := info_parts_u8
  clear hF hgm hown hxm
  go_enter Tryz.func38, Tryz.ntmps38
  go_wp2
  clear hmk
  have hown := HO.out
  have hxm : Ext _ wm := HXM.out
  clear HO HXM
  obtain ⟨b, hb⟩ : ∃ b, b = w.heap.size := ⟨_, rfl⟩
  have HB : Hid (Fk w (w.alloc (.cells #[.int .i64 0, .int .i64 0] 54)) b) := by rw [hb]; exact HF.out
  have hz : w.heap.size + 1 = (w.alloc (.cells #[.int .i64 0, .int .i64 0] 54)).heap.size := by simp
  rw [hz, ← hb]
  clear hz HF hb
  generalize w.alloc (.cells #[.int .i64 0, .int .i64 0] 54) = w2 at HB hown hxm ⊢
  go_loopw [6, 7] (fun v i wr => ∃ (k : Nat) (u : ByteArray), k ≤ s.size ∧ i = .int .i64 k ∧ wr.ownsRow w2.heap.size 5 1 v u.size (Lib.strCells u) ∧ Ext w2 wr ∧ u.size ≤ 8 * k ∧ Hid (dec9 f s k u = (T, A))) (fun _ i _ => s.size - (intOf i).toNat)
  case atStart => exact ⟨0, ⟨#[]⟩, by omega, rfl, hown, hxm, by decide, HD⟩
  case round =>
    obtain ⟨k, u, hk, rfl, ho, hx, hus, HU⟩ := hrel
    clear hown hxm HD
    have hle := hx.size
    by_cases hlt : k < s.size
    · have hki : (k : Int) < s.size := by omega
      have hki2 : (k : Int) ≤ s.size := by omega
      have hxs := from_size s k
      have hx0 : 0 < (s.extract k s.size).size := by omega
      have hg0 : (s.extract k s.size)[0] = s[k] := from_get s k 0 (by omega) hx0
      by_cases hlow : s[k].toNat < 128
      · have HN : Hid (dec9 f s (k + 1) (u ++ s.extract k (k + 1)) = (T, A)) := (dec9_low hlt hlow).symm.trans HU.out
        have HA := Lib.hid (fun w => HL.out (s.extract k s.size) w hx0 (by omega) (by rw [hg0]; exact hlow))
        rw [from_one s k hlt] at HA
        have hz : (s.extract k (k + 1)).size = 1 := by rw [ByteArray.size_extract]; omega
        generalize s.extract k (k + 1) = y at HN HA hz
        clear HU hlow hg0 hx0 HL HE HS HZ hxs
        go_wp2_with (first
          | (go_at_call 65; refine (HA.out _).mono ?_; rintro e w1 ⟨rfl, hb1⟩; have ho1 := own_ext ho hb1; have hx1 := hx.trans hb1; have hle1 := hx1.size)
          | (at_builtin; refine Lib.wpList_append_own_string _ rfl _ _ 96 9 rfl w2.heap.size 5 i0 Tryz.underlying96 Tryz.underlying9 hi hz0 hz1 hz2 _ _ _ rfl ho1 y rfl (by unfold maxLen; omega) (by omega) (by omega) ?_; intro v' w5 hown5 hgrow5 hnil5; have hx5 := hx1.own0 ho1 (Nat.le_refl _) hgrow5; clear hgrow5 hnil5))
        go_roundw
        case rel => exact ⟨k + 1, u ++ y, by omega, by go_num, by rw [ByteArray.size_append, strCells_app]; exact hown5, hx5, by rw [ByteArray.size_append]; omega, HN⟩
        case measure => simp [intOf]; omega
      · by_cases h2 : k + 1 < s.size
        · have hx1s : 1 < (s.extract k s.size).size := by omega
          have hg1 : (s.extract k s.size)[1] = s[k + 1] := from_get s k 1 (by omega) hx1s
          have HA : Hid (∀ w, TabD w → Calls Tryz.prog 65 #[.int .i64 z, .string (s.extract k s.size)] w fun e w' => e = .returned (.tuple #[.string (f s[k].toNat s[k + 1].toNat), .int .i64 (if (f s[k].toNat s[k + 1].toNat).size = 0 then 0 else 2)]) ∧ Ext w w') := fun w hT => by
            have h := HS.out (s.extract k s.size) w hT hx1s (by omega) (by rw [hg0]; exact hlow)
            rwa [hg0, hg1] at h
          have hz := HZ.out s[k].toNat s[k + 1].toNat
          have HTr := Lib.hid (HT.out.ext (HB.out.ex.trans hx))
          by_cases h3 : (f s[k].toNat s[k + 1].toNat).size = 0
          · have e := (dec9_none (t := u) hlt hlow h2 h3).symm.trans HU.out
            have e1 : (⟨#[]⟩ : ByteArray) = T := congrArg Prod.fst e
            have e2 : (k : Int) = A := congrArg Prod.snd e
            rw [if_pos h3, size0 h3] at HA
            subst e1
            subst e2
            have E1 : Hid (code9 (k : Int) = 2) := if_neg (by omega)
            have E2 : Hid (at9 (k : Int) = k) := if_neg (by omega)
            have HBr := Lib.hid (HB.out.ext hx)
            clear e HU h3 hz hlow hg0 hg1 hx0 hx1s HL HE HS HZ ho hx hxs hus
            go_wp2_with (go_at_call 65; refine (HA.out _ HTr.out).mono ?_; rintro e w1 ⟨rfl, hb1⟩; have HB1 := Lib.hid (HBr.out.ext hb1); obtain ⟨⟨c0, c1⟩, z0, z1⟩ := facts2 HB1.out.cf)
            obtain ⟨wf, hwf, hxf, k0, k1⟩ := fault_end HB1.out (.int .i64 2) (.int .i64 k)
            rw [← hwf]
            clear hwf c0 c1 z0 z1
            refine bodyPost_ret (v := .tuple #[.string ⟨#[]⟩, .agg #[.int .i64 2, .int .i64 k]]) (by simp [results, Tryz.results38, go_sem, k0, k1]) rfl ?_
            exact ⟨by rw [E1.out, E2.out], hxf⟩
          · have HN : Hid (dec9 f s (k + 2) (u ++ f s[k].toNat s[k + 1].toNat) = (T, A)) := (dec9_two hlt hlow h2 h3).symm.trans HU.out
            rw [if_neg h3] at HA
            generalize f s[k].toNat s[k + 1].toNat = y at HA HN hz h3
            clear HU hlow hg0 hg1 hx0 hx1s HL HE HS HZ hxs h3
            go_wp2_with (first
              | (go_at_call 65; refine (HA.out _ HTr.out).mono ?_; rintro e w1 ⟨rfl, hb1⟩; have ho1 := own_ext ho hb1; have hx1 := hx.trans hb1; have hle1 := hx1.size)
              | (at_builtin; refine Lib.wpList_append_own_string _ rfl _ _ 96 9 rfl w2.heap.size 5 i0 Tryz.underlying96 Tryz.underlying9 hi hz0 hz1 hz2 _ _ _ rfl ho1 y rfl (by unfold maxLen; omega) (by omega) (by omega) ?_; intro v' w5 hown5 hgrow5 hnil5; have hx5 := hx1.own0 ho1 (Nat.le_refl _) hgrow5; clear hgrow5 hnil5))
            go_roundw
            case rel => exact ⟨k + 2, u ++ y, by omega, by go_num, by rw [ByteArray.size_append, strCells_app]; exact hown5, hx5, by rw [ByteArray.size_append]; omega, HN⟩
            case measure => simp [intOf]; omega
        · have e := (dec9_left (f := f) (t := u) hlt hlow h2).symm.trans HU.out
          have e1 : (⟨#[]⟩ : ByteArray) = T := congrArg Prod.fst e
          have e2 : (k : Int) = A := congrArg Prod.snd e
          subst e1
          subst e2
          have HA := Lib.hid (fun w => HE.out (s.extract k s.size) w (by omega) (by rw [hg0]; exact hlow))
          have E1 : Hid (code9 (k : Int) = 2) := if_neg (by omega)
          have E2 : Hid (at9 (k : Int) = k) := if_neg (by omega)
          have HBr := Lib.hid (HB.out.ext hx)
          clear e HU hlow hg0 hx0 HL HE HS HZ ho hx hxs hus h2
          go_wp2_with (go_at_call 65; refine (HA.out _).mono ?_; rintro e w1 ⟨rfl, hb1⟩; have HB1 := Lib.hid (HBr.out.ext hb1); obtain ⟨⟨c0, c1⟩, z0, z1⟩ := facts2 HB1.out.cf)
          obtain ⟨wf, hwf, hxf, k0, k1⟩ := fault_end HB1.out (.int .i64 2) (.int .i64 k)
          rw [← hwf]
          clear hwf c0 c1 z0 z1
          refine bodyPost_ret (v := .tuple #[.string ⟨#[]⟩, .agg #[.int .i64 2, .int .i64 k]]) (by simp [results, Tryz.results38, go_sem, k0, k1]) rfl ?_
          exact ⟨by rw [E1.out, E2.out], hxf⟩
    · have e := (dec9_end (f := f) (t := u) hlt).symm.trans HU.out
      have e1 : u = T := congrArg Prod.fst e
      have e2 : (-1 : Int) = A := congrArg Prod.snd e
      subst e1
      subst e2
      have hst := own_str ho
      have HBr := Lib.hid (HB.out.ext hx)
      obtain ⟨⟨c0, c1⟩, z0, z1⟩ := facts2 HBr.out.cf
      clear e HU HL HE HS HZ ho hx hus
      go_wp2
      obtain ⟨wf, hwf, hxf, k0, k1⟩ := fault_end HBr.out (.int .i64 0) (.int .i64 0)
      rw [← hwf]
      clear hwf c0 c1 z0 z1
      refine bodyPost_ret (v := .tuple #[.string u, .agg #[.int .i64 0, .int .i64 0]]) (by simp [results, Tryz.results38, go_sem, k0, k1]) rfl ?_
      exact ⟨rfl, hxf⟩
end Go.Proofs.YtndopjmdpmkgeaaGreatDoor

namespace Go.Proofs.YtndopjmdpmkgeaaGreatDoor
open Go Go.ChangeShapes Go.WideShapes Go.ChangeAt Go.RowKit
set_option linter.unusedSimpArgs false
set_option linter.unusedVariables false

theorem clone_any (s : ByteArray) (w : World) (hs : s.size ≤ 1000000) : Calls Tryz.prog 67 #[.string s] w fun e w' => e = .returned (.string s) ∧ Ext w w' := by
  have HC := Lib.hid (fun w => Tryz.stringslite_Clone s w (by omega))
  go_enter Tryz.func67, Tryz.ntmps67
  go_wp2_with (go_at_call 114; refine (HC.out _).mono ?_; rintro e w1 ⟨rfl, hb1⟩)
  go_ret
  exact ⟨rfl, hb1⟩
set_option maxRecDepth 100000 in
set_option maxHeartbeats 1000000 in
theorem same_ok (s : ByteArray) (w : World) (hT : Tabs w) (hs : s.size ≤ 1000000) (hb : badS s < 0) :
    Calls Tryz.prog 39 #[.string s] w fun e w' => e = .returned (.tuple #[.string s, .agg #[.int .i64 0, .int .i64 0]]) ∧ Ext w w' := by
  have HCK := Lib.hid (fun w hT => check_no s w hT (by omega) hb)
  have HCL := Lib.hid (fun w => clone_any s w hs)
  have HF := Lib.hid (Fk.start w)
  have HT := Lib.hid hT
  clear hT hb
  go_enter Tryz.func39, Tryz.ntmps39
  go_wp2_with (first
    | (go_at_call 66; refine (HCK.out _ (HT.out.ext HF.out.ex)).mono ?_; rintro e w1 ⟨rfl, hb1⟩; have HF1 := Lib.hid ((HF.out.ext hb1).ext ((Ext.refl w1).alloc (.cells #[.int .i64 0, .int .i64 0] 54))); clear hb1 HF)
    | (go_at_call 24; refine (bad_no _ _ _ (by decide)).mono ?_; rintro e w2 ⟨rfl, hb2⟩; have HF2 := Lib.hid (HF1.out.ext hb2); clear hb2 HF1)
    | (go_at_call 67; refine (HCL.out _).mono ?_; rintro e w3 ⟨rfl, hb3⟩; have HF3 := Lib.hid (HF2.out.ext hb3); obtain ⟨⟨c0, c1⟩, z0, z1⟩ := facts2 HF3.out.cf; clear hb3 HF2))
  obtain ⟨wf, hwf, hxf, k0, k1⟩ := fault_end HF3.out (.int .i64 0) (.int .i64 0)
  rw [← hwf]
  clear hwf c0 c1 z0 z1
  refine bodyPost_ret (v := .tuple #[.string s, .agg #[.int .i64 0, .int .i64 0]]) (by simp [results, Tryz.results39, go_sem, k0, k1]) rfl ?_
  exact ⟨rfl, hxf⟩
set_option maxRecDepth 100000 in
set_option maxHeartbeats 1000000 in
theorem same_bad (s : ByteArray) (a : Int) (w : World) (hT : Tabs w) (hs : s.size ≤ 1000000) (hb : badS s = a) (ha : ¬ a < 0) :
    Calls Tryz.prog 39 #[.string s] w fun e w' => e = .returned (.tuple #[.string ⟨#[]⟩, .agg #[.int .i64 2, .int .i64 a]]) ∧ Ext w w' := by
  have HCK := Lib.hid (fun w hT => check_yes s w hT (by omega) a hb ha)
  have HF := Lib.hid (Fk.start w)
  have HT := Lib.hid hT
  clear hT hb
  go_enter Tryz.func39, Tryz.ntmps39
  go_wp2_with (first
    | (go_at_call 66; refine (HCK.out _ (HT.out.ext HF.out.ex)).mono ?_; rintro e w1 ⟨rfl, hb1⟩; have HF1 := Lib.hid (HF.out.ext hb1); have hlt1 := lt_of_block HF1.out.cf; clear hb1 HF)
    | (go_at_call 24; refine (bad_yes _ _ _ (by decide)).mono ?_; rintro e w2 ⟨rfl, hb2⟩))
  have hF : w2.heap[w1.heap.size]? = some (.cells #[.int .i64 2, .int .i64 a] 54 (0, 0)) := (hb2.block w1.heap.size (by simp)).trans (heap_alloc_new w1 _)
  have hD2 := (HF1.out.ext ((Ext.refl w1).alloc (.cells #[.int .i64 2, .int .i64 a] 54))).ext hb2
  have hR := hD2.cf
  have hx2 := hD2.ex
  obtain ⟨q, hq⟩ : ∃ q, q = w1.heap.size := ⟨_, rfl⟩
  obtain ⟨f, hf⟩ : ∃ f, f = w.heap.size := ⟨_, rfl⟩
  have hfc : f ≠ q := by omega
  have hlf : w.heap.size ≤ f := by omega
  rw [← hq] at hF ⊢
  rw [← hf] at hR ⊢
  clear hq hf hlt1 hb2 hD2
  obtain ⟨⟨f0, f1⟩, _⟩ := facts2 hF
  obtain ⟨⟨r0, r1⟩, z0, z1⟩ := facts2 hR
  clear hF
  go_region
  all_goals go_wp2
  obtain ⟨wf, hwf, hxf, hB, _, _⟩ := put2 hR hx2 hlf (.int .i64 2) (.int .i64 a)
  rw [← hwf]
  have k0 : wf.drew.cell? ⟨f, 0, none⟩ = some (.int .i64 2) := (facts2 hB).1.1
  have k1 : wf.drew.cell? ⟨f, 1, none⟩ = some (.int .i64 a) := (facts2 hB).1.2
  refine bodyPost_ret (v := .tuple #[.string ⟨#[]⟩, .agg #[.int .i64 2, .int .i64 a]]) (by simp [results, Tryz.results39, go_sem, k0, k1]) rfl ?_
  exact ⟨rfl, hxf.drew⟩
/-- What the program's Decode answers in a charset: the text, the fault. -/
def DecOut (c : Nat) (s : ByteArray) (w : World) (e : Ending) (w' : World) : Prop := e = .returned (.tuple #[.string (decN c s).1, .agg #[.int .i64 (code9 (decN c s).2), .int .i64 (at9 (decN c s).2)]]) ∧ Ext w w'
set_option maxRecDepth 100000 in
set_option maxHeartbeats 1000000 in
theorem decode_456 (c : Nat) (s : ByteArray) (w : World) (hc : c = 4 ∨ c = 5 ∨ c = 6) (hT : TabD w) (hs : s.size ≤ 100000) :
    Calls Tryz.prog 23 #[.int .i64 c, .string s] w (DecOut c s w) := by
  unfold DecOut
  have e : decN c s = dec9 (sg9 c) s 0 ⟨#[]⟩ := by unfold decN; rw [if_neg (by omega), if_pos (by omega)]
  rw [e]
  have HM := Lib.hid (fun w hT => decode_mixed c s w hc hT hs _ _ rfl)
  have HF := Lib.hid (Fk.start w)
  have HT := Lib.hid hT
  clear hT e
  generalize (dec9 (sg9 c) s 0 ⟨#[]⟩).1 = u at HM ⊢
  generalize code9 (dec9 (sg9 c) s 0 ⟨#[]⟩).2 = x at HM ⊢
  generalize at9 (dec9 (sg9 c) s 0 ⟨#[]⟩).2 = y at HM ⊢
  rcases hc with rfl | rfl | rfl
  all_goals
    go_enter Tryz.func23, Tryz.ntmps23
    go_wp2_with (go_at_call 38; refine (HM.out _ (HT.out.ext HF.out.ex)).mono ?_; rintro e w1 ⟨rfl, hb1⟩; have HF1 := Lib.hid (HF.out.ext hb1); obtain ⟨⟨c0, c1⟩, z0, z1⟩ := facts2 HF1.out.cf)
    obtain ⟨wf, hwf, hxf, k0, k1⟩ := fault_end HF1.out (.int .i64 x) (.int .i64 y)
    rw [← hwf]
    clear hwf c0 c1 z0 z1
    refine bodyPost_ret (v := .tuple #[.string u, .agg #[.int .i64 x, .int .i64 y]]) (by simp [results, Tryz.results23, go_sem, k0, k1]) rfl ?_
    exact ⟨rfl, hxf⟩
set_option maxRecDepth 100000 in
set_option maxHeartbeats 1000000 in
theorem decode_7 (s : ByteArray) (w : World) (hT : TabD w) (hs : s.size ≤ 100000) :
    Calls Tryz.prog 23 #[.int .i64 7, .string s] w (DecOut 7 s w) := by
  unfold DecOut
  have e : decN 7 s = (if badS s < 0 then s else ⟨#[]⟩, badS s) := by unfold decN; rw [if_neg (by omega), if_neg (by omega), if_pos rfl]
  rw [e]
  have HM : Hid (∀ w, Tabs w → Calls Tryz.prog 39 #[.string s] w fun e w' => e = .returned (.tuple #[.string (if badS s < 0 then s else ⟨#[]⟩), .agg #[.int .i64 (code9 (badS s)), .int .i64 (at9 (badS s))]]) ∧ Ext w w') := fun w hT => by
    by_cases h : badS s < 0
    · have := same_ok s w hT (by omega) h
      rw [if_pos h, show code9 (badS s) = 0 from if_pos h, show at9 (badS s) = 0 from if_pos h]
      exact this
    · have := same_bad s _ w hT (by omega) rfl h
      rw [if_neg h, show code9 (badS s) = 2 from if_neg h, show at9 (badS s) = badS s from if_neg h]
      exact this
  have HF := Lib.hid (Fk.start w)
  have HT := Lib.hid hT.t
  clear hT e
  simp only
  generalize (if badS s < 0 then s else ⟨#[]⟩) = u at HM ⊢
  generalize code9 (badS s) = x at HM ⊢
  generalize at9 (badS s) = y at HM ⊢
  go_enter Tryz.func23, Tryz.ntmps23
  go_wp2_with (go_at_call 39; refine (HM.out _ (HT.out.ext HF.out.ex)).mono ?_; rintro e w1 ⟨rfl, hb1⟩; have HF1 := Lib.hid (HF.out.ext hb1); obtain ⟨⟨c0, c1⟩, z0, z1⟩ := facts2 HF1.out.cf)
  obtain ⟨wf, hwf, hxf, k0, k1⟩ := fault_end HF1.out (.int .i64 x) (.int .i64 y)
  rw [← hwf]
  clear hwf c0 c1 z0 z1
  refine bodyPost_ret (v := .tuple #[.string u, .agg #[.int .i64 x, .int .i64 y]]) (by simp [results, Tryz.results23, go_sem, k0, k1]) rfl ?_
  exact ⟨rfl, hxf⟩
set_option maxRecDepth 100000 in
set_option maxHeartbeats 1000000 in
theorem decode_89 (c : Nat) (s : ByteArray) (w : World) (hc : c = 8 ∨ c = 9) (hs : s.size ≤ 100000) :
    Calls Tryz.prog 23 #[.int .i64 c, .string s] w (DecOut c s w) := by
  unfold DecOut
  have e : decN c s = (wtxt (wdS (decide (c = 9)) s).1 (wdS (decide (c = 9)) s).2, (wdS (decide (c = 9)) s).2) := by unfold decN; rw [if_neg (by omega), if_neg (by omega), if_neg (by omega)]
  rw [e]
  have HM : Hid (∀ w, Calls Tryz.prog 40 #[.string s, .bool (decide (c = 9))] w fun e w' => e = .returned (.tuple #[.string (wtxt (wdS (decide (c = 9)) s).1 (wdS (decide (c = 9)) s).2), .agg #[.int .i64 (code9 (wdS (decide (c = 9)) s).2), .int .i64 (at9 (wdS (decide (c = 9)) s).2)]]) ∧ Ext w w') := fun w => decode_any s (decide (c = 9)) w (by omega)
  have HF := Lib.hid (Fk.start w)
  clear e
  simp only
  generalize wtxt (wdS (decide (c = 9)) s).1 (wdS (decide (c = 9)) s).2 = u at HM ⊢
  generalize code9 (wdS (decide (c = 9)) s).2 = x at HM ⊢
  generalize at9 (wdS (decide (c = 9)) s).2 = y at HM ⊢
  rcases hc with rfl | rfl
  all_goals
    simp only [show decide (8 = 9) = false from rfl, show decide (9 = 9) = true from rfl] at HM
    go_enter Tryz.func23, Tryz.ntmps23
    go_wp2_with (go_at_call 40; refine (HM.out _).mono ?_; rintro e w1 ⟨rfl, hb1⟩; have HF1 := Lib.hid (HF.out.ext hb1); obtain ⟨⟨c0, c1⟩, z0, z1⟩ := facts2 HF1.out.cf)
    obtain ⟨wf, hwf, hxf, k0, k1⟩ := fault_end HF1.out (.int .i64 x) (.int .i64 y)
    rw [← hwf]
    clear hwf c0 c1 z0 z1
    refine bodyPost_ret (v := .tuple #[.string u, .agg #[.int .i64 x, .int .i64 y]]) (by simp [results, Tryz.results23, go_sem, k0, k1]) rfl ?_
    exact ⟨rfl, hxf⟩
set_option maxRecDepth 100000 in
set_option maxHeartbeats 2000000 in
theorem decode_03 (c : Nat) (s : ByteArray) (w : World) (hc : c ≤ 3) (hT : TabD w) (hs : s.size ≤ 100000) :
    Calls Tryz.prog 23 #[.int .i64 c, .string s] w (DecOut c s w) := by
  unfold DecOut
  have e : decN c s = (txt (decZ c s.data.toList), -1) := by unfold decN; rw [if_pos hc]
  rw [e, show code9 ((txt (decZ c s.data.toList), (-1 : Int))).2 = 0 from rfl, show at9 ((txt (decZ c s.data.toList), (-1 : Int))).2 = 0 from rfl]
  have HO : Hid (∀ w : World, Tabs w → Calls Tryz.prog 41 #[.int .i64 c] w (SetOut w c (tabP c))) := fun w hT => of_yes c w hT hc
  have HD : Hid (∀ (v : Value) (w : World), IsSet w v c (tabP c) → Calls Tryz.prog 42 #[v, .string s] w fun e w' => e = .returned (.tuple #[.string (txt (decZ c s.data.toList)), .agg #[.int .i64 0, .int .i64 0]]) ∧ Ext w w') := fun v w h => set_decode v c s w h hc hs
  obtain ⟨L, hL⟩ : ∃ L, L = tabP c := ⟨_, rfl⟩
  rw [← hL] at HO HD
  have HF := Lib.hid (Fk.start w)
  have HT := Lib.hid hT.t
  simp only
  generalize txt (decZ c s.data.toList) = u at HD ⊢
  have n0 : (0 : Int) ≤ c := by omega
  have n1 : (c : Int) ≤ 3 := by omega
  clear hT e hL hc
  generalize (c : Int) = n at HO HD n0 n1
  have g4 : (n == 4) = false := beq_false_of_ne (by omega)
  have g5 : (n == 5) = false := beq_false_of_ne (by omega)
  have g6 : (n == 6) = false := beq_false_of_ne (by omega)
  have g7 : (n == 7) = false := beq_false_of_ne (by omega)
  have g8 : (n == 8) = false := beq_false_of_ne (by omega)
  have g9 : (n == 9) = false := beq_false_of_ne (by omega)
  go_enter Tryz.func23, Tryz.ntmps23
  go_wp2_with (first
    | (go_at_call 41; refine (HO.out _ (HT.out.ext HF.out.ex)).mono ?_; rintro e w1 ⟨va, rfl, ⟨aa, an, ac, ab, am, ad, rfl, ht⟩, hb1⟩
       have HF1 := Lib.hid ((HF.out.ext hb1).ext ((Ext.refl w1).alloc (.cells #[.slice aa an ac, .slice ab am ad, .int .i64 n] 76)))
       have HI := Lib.hid (setOf n (ht.ext ((Ext.refl w1).alloc (.cells #[.slice aa an ac, .slice ab am ad, .int .i64 n] 76))))
       obtain ⟨⟨a0, a1, a2⟩, _⟩ := facts3 (heap_alloc_new w1 (.cells #[.slice aa an ac, .slice ab am ad, .int .i64 n] 76))
       clear hb1 ht HF)
    | (go_at_call 42; refine (HD.out _ _ HI.out).mono ?_; rintro e w2 ⟨rfl, hb2⟩; have HF2 := Lib.hid (HF1.out.ext hb2); obtain ⟨⟨c0, c1⟩, z0, z1⟩ := facts2 HF2.out.cf))
  obtain ⟨wf, hwf, hxf, k0, k1⟩ := fault_end HF2.out (.int .i64 0) (.int .i64 0)
  rw [← hwf]
  clear hwf c0 c1 z0 z1
  refine bodyPost_ret (v := .tuple #[.string u, .agg #[.int .i64 0, .int .i64 0]]) (by simp [results, Tryz.results23, go_sem, k0, k1]) rfl ?_
  exact ⟨rfl, hxf⟩
/-- The text of bytes in any charset. -/
theorem decode_cs (c : Nat) (s : ByteArray) (w : World) (hc : c ≤ 9) (hT : TabD w) (hs : s.size ≤ 100000) :
    Calls Tryz.prog 23 #[.int .i64 c, .string s] w (DecOut c s w) := by
  by_cases h3 : c ≤ 3
  · exact decode_03 c s w h3 hT hs
  by_cases h6 : c ≤ 6
  · exact decode_456 c s w (by omega) hT hs
  by_cases h7 : c = 7
  · subst h7; exact decode_7 s w hT hs
  · exact decode_89 c s w (by omega) hs
end Go.Proofs.YtndopjmdpmkgeaaGreatDoor

