/-
  The law PointTexts holds at every list of numbers: the text of any numbers, or that one of them is none, are the document's; the text has just those signs.
  Conditions: none beyond the row's own.
-/
import Derived.Test.YtdegnjbpjffgmaaDoorPt8
import Derived.ChangeMaps
import Derived.ChangeSlices
import Derived.ChangeOld
namespace Go.Proofs.YtdegnjbpjffgmaaDoor.pointTexts
open Go Go.Proofs.YtdegnjbpjffgmaaDoor Go.ChangeShapes Go.WideShapes Go.ChangeAt Go.RowKit
open Go.ChangeMaps (open_string shut_string)
set_option linter.unusedSimpArgs false
set_option linter.unusedVariables false

theorem walk_long (a : Option Addr) (len cap : Nat) (w : World) (hT : Tabs w) (h : 500 < (len : Int)) :
    Calls Tryd.prog 4 #[.slice a len cap] w fun e w' => e = .returned (.bool true) ∧ Ext w w' := by
  go_enter Tryd.func4, Tryd.ntmps4
  go_wp2_with (go_at_call 11; refine (awake_yes _ hT).mono ?_; rintro e w2 ⟨rfl, hb2⟩)
  go_ret
  exact ⟨rfl, hb2⟩
/-- What stands in memory behind the calls of Text and Points. -/
structure Tx (w0 w : World) (a : Option Addr) (c : Nat) (a2 : Option Addr) (c2 f : Nat) (zs : List Int) : Prop where
  ex : Ext w0 w
  tb : Tabs w
  r1 : IsRow w a zs.length c zs
  r2 : IsRow w a2 zs.length c2 zs
  cf : w.heap[f]? = some (.cells #[.int .i64 0, .int .i64 0] 30 (0, 0))
theorem Tx.ext {w0 w w' : World} {a : Option Addr} {c : Nat} {a2 : Option Addr} {c2 f : Nat} {zs : List Int} (h : Tx w0 w a c a2 c2 f zs) (k : Ext w w') : Tx w0 w' a c a2 c2 f zs :=
  ⟨h.ex.trans k, h.tb.ext k, h.r1.ext k, h.r2.ext k, (k.block f (lt_of_block h.cf)).trans h.cf⟩
theorem Tx.made {w0 w5 : World} {a : Option Addr} {c : Nat} {a2 : Option Addr} {c2 : Nat} {zs : List Int} (hx : Ext w0 w5) (hT : Tabs w5) (h1 : IsRow w5 a zs.length c zs) (h2 : IsRow w5 a2 zs.length c2 zs) :
    Tx w0 (w5.alloc (.cells #[.int .i64 0, .int .i64 0] 30)) a c a2 c2 w5.heap.size zs :=
  have k : Ext w5 (w5.alloc (.cells #[.int .i64 0, .int .i64 0] 30)) := (Ext.refl w5).alloc _
  ⟨hx.trans k, hT.ext k, h1.ext k, h2.ext k, heap_alloc_new w5 _⟩
theorem Tx.cells {w0 w : World} {a : Option Addr} {c : Nat} {a2 : Option Addr} {c2 f : Nat} {zs : List Int} (h : Tx w0 w a c a2 c2 f zs) : w.cell? ⟨f, 0, none⟩ = some (.int .i64 0) ∧ w.cell? ⟨f, 1, none⟩ = some (.int .i64 0) := by
  simp [World.cell?, h.cf]
set_option maxRecDepth 100000 in
set_option maxHeartbeats 4000000 in
theorem walk_yes (x off cap : Nat) (zs : List Int) (w : World) (hT : Tabs w) (hl : ¬ 500 < (zs.length : Int)) (u : ByteArray) (hR : IsRow w (some ⟨x, off, none⟩) zs.length cap zs)
    (X : Calls Tryd.prog 8 #[.slice (some ⟨x, off, none⟩) zs.length cap] w fun e w' => e = .returned (.tuple #[.string u, .bool true]) ∧ Ext w w')
    (P : ∀ w1, Tabs w1 → Calls Tryd.prog 13 #[.string u] w1 fun e w' => ∃ a c, e = .returned (.tuple #[.slice a zs.length c, .agg #[.int .i64 0, .int .i64 0]]) ∧ IsRow w' a zs.length c zs ∧ Ext w1 w')
    (RT : ∀ w1 c, IsRow w1 (some ⟨x, off, none⟩) zs.length c zs → Calls Tryd.prog 14 #[.slice (some ⟨x, off, none⟩) zs.length c] w1 fun e w' => e = .returned (.string u) ∧ Ext w1 w')
    (N : ∀ w1, Tabs w1 → Calls Tryd.prog 17 #[.string u] w1 fun e w' => e = .returned (.int .i64 zs.length) ∧ Ext w1 w')
    (V : ∀ w1, Tabs w1 → Calls Tryd.prog 18 #[.string u] w1 fun e w' => e = .returned (.bool true) ∧ Ext w1 w')
    (ha : allSigns zs = true) (hc : ∀ (j : Nat) z, zs[j]? = some z → w.cell? ⟨x, off + j, none⟩ = some (.int .i32 z)) (h1 : 1 ≤ zs.length) :
    Calls Tryd.prog 4 #[.slice (some ⟨x, off, none⟩) zs.length cap] w fun e w' => e = .returned (.bool true) ∧ Ext w w' := by
  have hxl : x < w.heap.size := World.block_lt_of_cell? w _ (hc 0 (zs[0]) (by simp))
  have HC := Lib.hid hc
  have HA := Lib.hid ha
  clear hc ha
  have HX := Lib.hid X
  have HP := Lib.hid P
  have HRT := Lib.hid RT
  have HN := Lib.hid N
  have HV := Lib.hid V
  have HT := Lib.hid hT
  have HR := Lib.hid hR
  clear X P RT N V hT hR
  go_enter Tryd.func4, Tryd.ntmps4
  go_wp2_with (go_at_call 8; refine HX.out.mono ?_; rintro e w1 ⟨rfl, hb1⟩)
  go_loopw [20] (fun i wr => ∃ (k : Nat), k ≤ zs.length ∧ i = .int .i64 k ∧ Ext w wr) (fun i _ => zs.length - (intOf i).toNat)
  case atStart => exact ⟨0, by omega, rfl, hb1⟩
  case round =>
    obtain ⟨k, hk, rfl, hx⟩ := hrel
    clear hb1
    by_cases hlt : k < zs.length
    · have hc0 := (World.cell?_of_block (w := w) (hx.block x hxl)).trans (HC.out k zs[k] (by simp [hlt]))
      have hp : isSign zs[k] = true := by
        have := HA.out
        unfold allSigns at this
        rw [List.all_eq_true] at this
        exact this _ (List.getElem_mem hlt)
      generalize zs[k] = p at hc0 hp
      have HS := Lib.hid (fun w => rscalar_any p w)
      rw [hp] at HS
      clear hp
      go_wp2_with (go_at_call 10; refine (HS.out _).mono ?_; rintro e w2 ⟨rfl, rfl⟩)
      go_roundw
      case rel => exact ⟨k + 1, by omega, by go_num, hx⟩
      case measure => simp [intOf]; omega
    · have TR := HT.out.ext hx
      go_wp2_with (first | (go_at_call 13; refine (HP.out _ TR).mono ?_; rintro e w5 ⟨a2, c2, rfl, hr2, hb5⟩; have hC := Tx.made (hx.trans hb5) (TR.ext hb5) ((HR.out.ext hx).ext hb5) hr2; clear hb5 hr2; obtain ⟨q0, q1⟩ := hC.cells) | (go_at_call 11; refine (awake_yes _ hC.tb).mono ?_; rintro e wx ⟨rfl, hbx⟩; have hC' := hC.ext hbx; clear hC hbx; have hC := hC'; clear hC'; obtain ⟨q0, q1⟩ := hC.cells) | (go_at_call 14; refine (HRT.out _ _ hC.r1).mono ?_; rintro e wx ⟨rfl, hbx⟩; have hC' := hC.ext hbx; clear hC hbx; have hC := hC'; clear hC'; obtain ⟨q0, q1⟩ := hC.cells) | (go_at_call 15; refine (same_row hC.r2 hC.r1 (by omega)).mono ?_; rintro e wx ⟨rfl, hbx⟩; have hC' := hC.ext hbx; clear hC hbx; have hC := hC'; clear hC'; obtain ⟨q0, q1⟩ := hC.cells) | (go_at_call 16; refine (bad_no _ _ _ (by decide)).mono ?_; rintro e wx ⟨rfl, hbx⟩; have hC' := hC.ext hbx; clear hC hbx; have hC := hC'; clear hC'; obtain ⟨q0, q1⟩ := hC.cells) | (go_at_call 17; refine (HN.out _ hC.tb).mono ?_; rintro e wx ⟨rfl, hbx⟩; have hC' := hC.ext hbx; clear hC hbx; have hC := hC'; clear hC'; obtain ⟨q0, q1⟩ := hC.cells) | (go_at_call 18; refine (HV.out _ hC.tb).mono ?_; rintro e wx ⟨rfl, hbx⟩; have hC' := hC.ext hbx; clear hC hbx; have hC := hC'; clear hC'; obtain ⟨q0, q1⟩ := hC.cells))
      go_ret
      exact ⟨by simp, hC.ex⟩
set_option maxRecDepth 100000 in
set_option maxHeartbeats 4000000 in
theorem walk_none (a : Option Addr) (cap : Nat) (w : World) (hT : Tabs w) (u : ByteArray) (hR : IsRow w a 0 cap [])
    (X : Calls Tryd.prog 8 #[.slice a 0 cap] w fun e w' => e = .returned (.tuple #[.string u, .bool true]) ∧ Ext w w')
    (P : ∀ w1, Tabs w1 → Calls Tryd.prog 13 #[.string u] w1 fun e w' => ∃ a c, e = .returned (.tuple #[.slice a 0 c, .agg #[.int .i64 0, .int .i64 0]]) ∧ IsRow w' a 0 c [] ∧ Ext w1 w')
    (RT : ∀ w1 c, IsRow w1 a 0 c [] → Calls Tryd.prog 14 #[.slice a 0 c] w1 fun e w' => e = .returned (.string u) ∧ Ext w1 w')
    (N : ∀ w1, Tabs w1 → Calls Tryd.prog 17 #[.string u] w1 fun e w' => e = .returned (.int .i64 0) ∧ Ext w1 w')
    (V : ∀ w1, Tabs w1 → Calls Tryd.prog 18 #[.string u] w1 fun e w' => e = .returned (.bool true) ∧ Ext w1 w') :
    Calls Tryd.prog 4 #[.slice a 0 cap] w fun e w' => e = .returned (.bool true) ∧ Ext w w' := by
  have HX := Lib.hid X
  have HP := Lib.hid P
  have HRT := Lib.hid RT
  have HN := Lib.hid N
  have HV := Lib.hid V
  have HT := Lib.hid hT
  have HR := Lib.hid hR
  clear X P RT N V hT hR
  go_enter Tryd.func4, Tryd.ntmps4
  go_wp2_with (go_at_call 8; refine HX.out.mono ?_; rintro e w1 ⟨rfl, hx⟩)
  have TR := HT.out.ext hx
  refine wp_loop_rounds 1 ?_
  rw [rounds_succ]
  go_wp2_with (first | (go_at_call 13; refine (HP.out _ TR).mono ?_; rintro e w5 ⟨a2, c2, rfl, hr2, hb5⟩; have hC := Tx.made (hx.trans hb5) (TR.ext hb5) ((HR.out.ext hx).ext hb5) hr2; clear hb5 hr2; obtain ⟨q0, q1⟩ := hC.cells) | (go_at_call 11; refine (awake_yes _ hC.tb).mono ?_; rintro e wx ⟨rfl, hbx⟩; have hC' := hC.ext hbx; clear hC hbx; have hC := hC'; clear hC'; obtain ⟨q0, q1⟩ := hC.cells) | (go_at_call 14; refine (HRT.out _ _ hC.r1).mono ?_; rintro e wx ⟨rfl, hbx⟩; have hC' := hC.ext hbx; clear hC hbx; have hC := hC'; clear hC'; obtain ⟨q0, q1⟩ := hC.cells) | (go_at_call 15; refine (same_row hC.r2 hC.r1 (by decide)).mono ?_; rintro e wx ⟨rfl, hbx⟩; have hC' := hC.ext hbx; clear hC hbx; have hC := hC'; clear hC'; obtain ⟨q0, q1⟩ := hC.cells) | (go_at_call 16; refine (bad_no _ _ _ (by decide)).mono ?_; rintro e wx ⟨rfl, hbx⟩; have hC' := hC.ext hbx; clear hC hbx; have hC := hC'; clear hC'; obtain ⟨q0, q1⟩ := hC.cells) | (go_at_call 17; refine (HN.out _ hC.tb).mono ?_; rintro e wx ⟨rfl, hbx⟩; have hC' := hC.ext hbx; clear hC hbx; have hC := hC'; clear hC'; obtain ⟨q0, q1⟩ := hC.cells) | (go_at_call 18; refine (HV.out _ hC.tb).mono ?_; rintro e wx ⟨rfl, hbx⟩; have hC' := hC.ext hbx; clear hC hbx; have hC := hC'; clear hC'; obtain ⟨q0, q1⟩ := hC.cells))
  go_ret
  exact ⟨by simp, hC.ex⟩
set_option maxRecDepth 100000 in
set_option maxHeartbeats 2000000 in
theorem walk_no (x off cap : Nat) (zs : List Int) (w : World) (hT : Tabs w) (hl : ¬ 500 < (zs.length : Int))
    (X : Calls Tryd.prog 8 #[.slice (some ⟨x, off, none⟩) zs.length cap] w fun e w' => e = .returned (.tuple #[.string ⟨#[]⟩, .bool false]) ∧ Ext w w')
    (ha : allSigns zs = false) (hc : ∀ (j : Nat) z, zs[j]? = some z → w.cell? ⟨x, off + j, none⟩ = some (.int .i32 z)) (h1 : 1 ≤ zs.length) :
    Calls Tryd.prog 4 #[.slice (some ⟨x, off, none⟩) zs.length cap] w fun e w' => e = .returned (.bool true) ∧ Ext w w' := by
  have hxl : x < w.heap.size := World.block_lt_of_cell? w _ (hc 0 (zs[0]) (by simp))
  have HC := Lib.hid hc
  have HA := Lib.hid ha
  have HX := Lib.hid X
  have HT := Lib.hid hT
  clear hc ha X hT
  go_enter Tryd.func4, Tryd.ntmps4
  go_wp2_with (go_at_call 8; refine HX.out.mono ?_; rintro e w1 ⟨rfl, hb1⟩)
  go_loopw [20] (fun i wr => ∃ (k : Nat), k ≤ zs.length ∧ i = .int .i64 k ∧ Ext w wr ∧ Hid ((zs.take k).all isSign = true)) (fun i _ => zs.length - (intOf i).toNat)
  case atStart => exact ⟨0, by omega, rfl, hb1, rfl⟩
  case round =>
    obtain ⟨k, hk, rfl, hx, HB⟩ := hrel
    clear hb1
    by_cases hlt : k < zs.length
    · have hc0 := (World.cell?_of_block (w := w) (hx.block x hxl)).trans (HC.out k zs[k] (by simp [hlt]))
      have htk : zs.take (k + 1) = zs.take k ++ [zs[k]] := List.take_succ_eq_append_getElem hlt
      generalize zs[k] = p at hc0 htk
      have HTK := Lib.hid htk
      clear htk
      cases hp : isSign p
      · have HS := Lib.hid (fun w => rscalar_any p w)
        rw [hp] at HS
        clear hp
        go_wp2_with (first | (go_at_call 10; refine (HS.out _).mono ?_; rintro e w2 ⟨rfl, rfl⟩) | (go_at_call 11; refine (awake_yes _ (HT.out.ext hx)).mono ?_; rintro e w3 ⟨rfl, hb3⟩))
        go_ret
        exact ⟨rfl, hx.trans hb3⟩
      · have HS := Lib.hid (fun w => rscalar_any p w)
        rw [hp] at HS
        have HPP := Lib.hid hp
        clear hp
        go_wp2_with (go_at_call 10; refine (HS.out _).mono ?_; rintro e w2 ⟨rfl, rfl⟩)
        go_roundw
        case rel =>
          refine ⟨k + 1, by omega, by go_num, hx, ?_⟩
          show (zs.take (k + 1)).all isSign = true
          rw [HTK.out, List.all_append, HB.out]
          simp [HPP.out]
        case measure => simp [intOf]; omega
    · exfalso
      have hkl : k = zs.length := by omega
      have e1 := HB.out
      rw [hkl, List.take_length] at e1
      have e2 := HA.out
      unfold allSigns at e2
      rw [e1] at e2
      cases e2
theorem badS_txt {zs : List Int} (ha : allSigns zs = true) : badS (txt zs) < 0 := by
  have h := badL_encs zs 0 [] ha
  rw [List.append_nil, badL_nil] at h
  show badL 0 (encs zs) < 0
  omega
theorem runes_txt {zs : List Int} (ha : allSigns zs = true) : runesL (txt zs).data.toList = zs := runesL_encs zs ha
theorem walk (a : Option Addr) (len cap : Nat) (zs : List Int) {w : World} (hR : IsRow w a len cap zs) (W : World) (e : W = w) (hT : Tabs W) :
    Calls Tryd.prog 4 #[.slice a len cap] W fun e w' => e = .returned (.bool true) ∧ Ext W w' := by
  subst e
  by_cases h0 : 500 < (len : Int)
  · exact walk_long a len cap W hT h0
  have hX := text_row hR (Ext.refl W) (by have := hR.1; omega)
  have hRR := hR
  obtain ⟨rfl, r⟩ := hR
  cases ha : allSigns zs
  · have hto := textOut_no ha
    rw [hto, ha] at hX
    by_cases hz : zs.length = 0
    · have e : zs = [] := List.eq_nil_of_length_eq_zero hz
      subst e
      cases ha
    · rcases r with r | ⟨x, off, rfl, _, hc⟩
      · exact absurd r hz
      · exact walk_no x off cap zs W hT h0 hX ha hc (by omega)
  · have hto : textOut zs = txt zs := textOut_yes ha
    rw [hto, ha] at hX
    have hts := txt_size zs
    have hb := badS_txt ha
    have hv : validS (txt zs) = true := by rw [validS_eq]; exact decide_eq_true hb
    have P : ∀ w1, Tabs w1 → Calls Tryd.prog 13 #[.string (txt zs)] w1 fun e w' => ∃ a c, e = .returned (.tuple #[.slice a zs.length c, .agg #[.int .i64 0, .int .i64 0]]) ∧ IsRow w' a zs.length c zs ∧ Ext w1 w' := fun w1 h => by
      have := points_ok (txt zs) w1 h (by omega) hb
      rwa [runes_txt ha] at this
    have N : ∀ w1, Tabs w1 → Calls Tryd.prog 17 #[.string (txt zs)] w1 fun e w' => e = .returned (.int .i64 zs.length) ∧ Ext w1 w' := fun w1 h => by
      have := count_yes (txt zs) w1 h (by omega) hv
      rwa [runeCount_eq, runes_txt ha] at this
    have V : ∀ w1, Tabs w1 → Calls Tryd.prog 18 #[.string (txt zs)] w1 fun e w' => e = .returned (.bool true) ∧ Ext w1 w' := fun w1 h => by
      have := valid_any (txt zs) w1 h (by omega)
      rwa [hv] at this
    by_cases hz : zs.length = 0
    · have e : zs = [] := List.eq_nil_of_length_eq_zero hz
      subst e
      exact walk_none a cap W hT (txt []) hRR hX P (fun w1 c h => rtext_row h (by decide) rfl) N V
    · rcases r with r | ⟨x, off, rfl, _, hc⟩
      · exact absurd r hz
      · exact walk_yes x off cap zs W hT h0 (txt zs) hRR hX P (fun w1 c h => rtext_row h (by omega) ha) N V ha hc (by omega)
set_option maxRecDepth 100000 in
theorem lifted (os : Os) (started : os.Started) (H : Type) (enc : TypeId × Value → H) :
    ReturnsInHanded {} Tryd.checked os 4 .any (fun w args => (Rows.pointTextsSpec.pre enc Tryd.prog Tryd.f4 Rows.pointTextsRow.domain false w args ∧ laidMetH Tryd.prog Rows.pointTextsRow.laid w) ∧ sizedMet enc Tryd.prog Tryd.f4 (OpenSpec.ofChange Rows.pointTextsSpec) false w args)
      (Rows.pointTextsSpec.post enc Tryd.prog Tryd.f4 false true false false) := by
  refine returnsInHanded_of_change_and (C := Tryd.checked) (X := fun w _ => laidMetH Tryd.prog Rows.pointTextsRow.laid w) (fun _ _ _ hh h => h.of_heap hh) own started (by kernel_rfl) Tryd.func4
    (ChangeSpec.witness_shaped (enc := enc) (C := Tryd.checked) (os := os) (X := fun w _ => laidMetH Tryd.prog Rows.pointTextsRow.laid w) false (World.laidAll Tryd.prog os Rows.pointTextsRow.laid) #[.slice none 0 0] 8 (World.laidAll_os _ _ _)
      (World.shaped_of_ZipB (by kernel_rfl) (by kernel_rfl)) (by kernel_rfl) (by kernel_rfl) (by kernel_rfl)
      (by rw [MakeChecks.laidMetH_plain _ _ _ (by kernel_rfl)]; exact laidMet_laidAll _ (by kernel_rfl) (by kernel_rfl))) ?_
  intro W base args ds gs before hval0 hW hcnd _ hL _
  have hT : Tabs W := tabs_of hL
  have hval : ∀ (j : Nat) t v, Tryd.f4.params[j]? = some t → args[j]? = some v → Value.okWide Tryd.prog W .any base t v := hval0
  have hW' := hW
  obtain ⟨p, q, hA0, hV, rfl, hfz, hnd⟩ := hW
  have hA : DataW.TrodAll enc Tryd.prog W 0 (fun _ => true) true Tryd.f4.params.toList args.toList ds p := hA0
  rw [Tryd.params4] at hA hval
  obtain ⟨v0, vs0, d0, ds0, p0, q0, hargs, rfl, rfl, h0, r0⟩ := trodAll_cons hA
  obtain ⟨rfl, rfl, rfl⟩ := trodAll_nil r0
  obtain rfl : args = #[v0] := by cases args; simp_all
  obtain ⟨rfl, rfl⟩ := trodVars_none hV
  obtain ⟨a0, len0, cap0, rfl⟩ := okWide_slice Tryd.underlying27 (hval 0 27 v0 rfl rfl)
  have k0 := h0
  have lt0 : ∀ x ∈ p0, x.block < W.heap.size := by obtain ⟨m, hm⟩ := k0; exact DataW.trod_lt m _ _ _ hm
  obtain ⟨z0, w0⟩ : ∃ zs, IsRow W a0 len0 cap0 zs := by
    obtain ⟨fuel, hf⟩ := h0
    rcases open_ints Tryd.underlying27 Tryd.underlying21 (by kernel_rfl) hf with ⟨hcs, _⟩ | ⟨x, len', cap', zs, hcs, _, hl, hm, hz, hx, hcell, hwz⟩
    · simp [Value.cells] at hcs
      obtain ⟨rfl, rfl, rfl⟩ := hcs
      exact ⟨[], rfl, .inl rfl⟩
    · simp [Value.cells] at hcs
      obtain ⟨rfl, rfl, rfl⟩ := hcs
      exact ⟨zs.take _, isRow_of hl (by simpa using hz) hcell⟩
  clear hA0 hval0
  refine (walk a0 len0 cap0 z0 w0 W rfl hT).mono fun e W' ⟨he, bel⟩ => ?_
  subst he
  exact ⟨_, rfl, _, _, _, [], _, [], hW', trodAll_mk1 (shut_bool Tryd.underlying4 _), (trodAll_cons_mk (Below.trod laidOut (by kernel_rfl) (of_decide_eq_true (by kernel_rfl)) k0 bel lt0) trodAll_mk0), rfl, bel.frame _, fun h => by cases h⟩

theorem over : Rows.pointTextsRow.holds Tryd.pinned (OpenSpec.ofChange Rows.pointTextsSpec) :=
  OpenClaim.holds_of_wide 4 Tryd.f4 rfl rfl rfl rfl rfl rfl rfl ⟨rfl, rfl, rfl, rfl, rfl⟩ rfl rfl rfl rfl rfl (by kernel_rfl) Tryd.func4 (by kernel_rfl)
    (of_decide_eq_true (by kernel_rfl)) (by unfold Func.isWrapper; first | (rw [if_pos (by decide +kernel)]; kernel_rfl) | (rw [if_neg (by decide +kernel)]; exact ⟨rfl, rfl⟩))
    (fun os started H enc _ => lifted os started H enc)

theorem said : Rows.PointTextsSaid := over
theorem plain (f : FuncId) (fn : Func) (hf : Tryd.pinned.checked.prog.funcNamed "diacritic/diacriticlaw02.PointTexts" = some f) (hfn : Tryd.pinned.checked.prog.funcs[f]? = some fn) :
    false = Tryd.pinned.checked.prog.looks [] ∧ ∀ (j : Nat) t, fn.params[j]? = some t → Tryd.pinned.checked.prog.wantsStandIn t = false := by
  obtain rfl : f = 4 := Option.some.inj ((show Tryd.prog.funcNamed "diacritic/diacriticlaw02.PointTexts" = some 4 by kernel_rfl).symm.trans hf) |>.symm
  obtain rfl : fn = Tryd.f4 := (Option.some.inj (Tryd.func4.symm.trans hfn)).symm
  refine ⟨by kernel_rfl, fun j t ht => ?_⟩
  rw [Tryd.params4] at ht
  have hm : t ∈ [27] := by simpa using Array.mem_of_getElem? ht
  have hall : ([27].all fun u => !Tryd.prog.wantsStandIn u) = true := by kernel_rfl
  exact (show Tryd.prog.wantsStandIn t = false by simpa using List.all_eq_true.1 hall t hm)
/-- THE CARD. -/
theorem proved : Rows.PointTextsCardSaid :=
  Claim7.holds_tied_plain_at .later [] _ _ _ _ said (fun _ h => by cases h) (by kernel_rfl) (fun _ h => by cases h) pointTexts_row_tie rfl ⟨rfl, rfl⟩ (by kernel_rfl) rfl plain (by kernel_rfl)
#print axioms proved

end Go.Proofs.YtdegnjbpjffgmaaDoor.pointTexts
