/-
  The law WansungRows holds: the signs of the rows that aren't syllables, by rising codes, are the document's; no two codes have one sign.
  Conditions: none: a closed sentence.
-/
import Derived.Test.YtmfafdgmggcoiaaGreatDoorWr2
import Derived.Test.YtmfafdgmggcoiaaGreatDoorWn4
import Derived.Test.YtmfafdgmggcoiaaGreatDoorWnT
namespace Go.Proofs.YtmfafdgmggcoiaaGreatDoor.wansungRows
open Go Go.Proofs.YtmfafdgmggcoiaaGreatDoor Go.ChangeShapes Go.WideShapes Go.ChangeAt Go.RowKit
open Go.ChangeMaps (open_string shut_string)
set_option linter.unusedSimpArgs false
set_option linter.unusedVariables false

theorem own : ownKnob Tryz.prog.godebug = none := by kernel_rfl
abbrev Tabs (w : World) : Prop := _root_.Go.Proofs.YtmfafdgmggcoiaaGreatDoor.Tabs w ∧ Tab7 w
theorem tabs_of {W : World} (h : laidMetH Tryz.prog Rows.wansungRowsRow.laid W) : Tabs W := ⟨_root_.Go.Proofs.YtmfafdgmggcoiaaGreatDoor.tabs_of h, tab7_of h⟩
def L0 : List Pr := rowPairs
theorem new_pair {W w : World} (hx : Ext W w) (c p : Int) (t : TypeId) : ((w.alloc (.cells #[.int .i64 c, .int .i32 p] t)).cell? ⟨w.heap.size, 0, none⟩ = some (.int .i64 c) ∧ (w.alloc (.cells #[.int .i64 c, .int .i32 p] t)).cell? ⟨w.heap.size, 1, none⟩ = some (.int .i32 p)) := by
  have h := heap_alloc_new w (.cells #[.int .i64 c, .int .i32 p] t)
  simp only [World.cell?, h]
  exact ⟨rfl, rfl⟩
theorem pairs_cap {w : World} {a : Option Addr} {n cap : Nat} {l : List Pr} (h : IsPairs w a n cap l) (h0 : 0 < n) : n ≤ cap := by
  obtain ⟨h1, h2 | ⟨x, off, _, hc, _⟩⟩ := h
  · omega
  · exact hc
set_option maxRecDepth 100000 in
set_option maxHeartbeats 4000000 in
theorem walk (W : World) (hT : Tabs W) : Calls Tryz.prog 3 #[] W fun e w' => e = .returned (.bool true) ∧ Ext W w' := by
  obtain ⟨m, hm⟩ : ∃ m : Nat, m = 724 := ⟨_, rfl⟩
  have HT := Lib.hid hT
  have HP : Hid (Calls Tryz.prog 4 #[] W fun e w' => ∃ a cap, e = .returned (.slice a m cap) ∧ IsPairs w' a m cap L0 ∧ Ext W w') := by
    rw [hm]
    exact wrows W hT.1
  have HM := Lib.hid hm
  have hm1 : ((m : Int) == 724) = true := by rw [hm]; decide
  have hm2 : (m : Int) ≤ 724 := by omega
  clear hm hT
  have HR := Lib.hid (fun (a b : Nat) (ha : 161 ≤ a) (ha2 : a ≤ 172) (hb : 161 ≤ b) (hb2 : b ≤ 254) (w : World) => rrow a b w hb hb2)
  have HHit := Lib.hid (fun (a b k : Nat) (ha : 161 ≤ a) (ha2 : a ≤ 172) (hb : 161 ≤ b) (hb2 : b ≤ 254) (h : Rpto (((a * 256 + b : Nat)) : Int) k) (hz : rowZ a b ≠ 0) => rpto_hit ha ha2 hb hb2 h hz)
  have HMiss := Lib.hid (fun (a b k : Nat) (hb : b < 256) (h : Rpto (((a * 256 + b : Nat)) : Int) k) (hz : rowZ a b = 0) => rpto_miss hb h hz)
  have HFar := Lib.hid (fun (i j : Nat) (x y : Pr) (h : i ≠ j) (hx : L0[i]? = some x) (hy : L0[j]? = some y) => rowPairs_far h hx hy)
  go_enter Tryz.func3, Tryz.ntmps3
  go_wp2_with (go_at_call 4; refine HP.out.mono ?_; rintro e w1 ⟨pa, cap, rfl, hl, hb1⟩)
  go_loopw [2, 3] (fun k a wr => ∃ (k0 a0 : Nat), a0 ≤ 173 ∧ 161 ≤ a0 ∧ k = .int .i64 k0 ∧ a = .int .i64 a0 ∧ Hid (Rpto (((a0 * 256 + 161 : Nat)) : Int) k0) ∧ Ext w1 wr) (fun _ a _ => 173 - (intOf a).toNat)
  case atStart => exact ⟨0, 161, by omega, by omega, rfl, rfl, rpto_first, Ext.refl _⟩
  case round =>
    obtain ⟨k, a, ha, ha1, rfl, rfl, HU, hx⟩ := hrel
    by_cases hlt : a ≤ 172
    · have h8 : (a : Int) ≤ 172 := by omega
      go_wp2
      go_loopw [2, 4] (fun k b wi => ∃ (k0 b0 : Nat), b0 ≤ 255 ∧ 161 ≤ b0 ∧ k = .int .i64 k0 ∧ b = .int .i64 b0 ∧ Hid (Rpto (((a * 256 + b0 : Nat)) : Int) k0) ∧ Ext w1 wi) (fun _ b _ => 255 - (intOf b).toNat)
      case atStart => exact ⟨k, 161, by omega, by omega, rfl, rfl, HU, hx⟩
      case round =>
        obtain ⟨k, b, hb, hb64, rfl, rfl, HV, hxi⟩ := hrel
        clear HU hx
        by_cases hbl : b ≤ 254
        · have h9 : (b : Int) ≤ 254 := by omega
          have HB := Lib.hid (fun w => HR.out a b ha1 hlt hb64 hbl w)
          by_cases hz : rowZ a b = 0
          · have HV2 := Lib.hid (HMiss.out a b k (by omega) HV.out hz)
            rw [hz] at HB
            clear HHit HMiss HFar HR
            go_wp2_with (go_at_call 5; refine (HB.out _).mono ?_; rintro e w2 ⟨rfl, hb2⟩)
            go_roundw
            case rel => exact ⟨k, b + 1, by omega, by omega, rfl, by go_num, by have := HV2.out; show Rpto _ _; rwa [show ((a * 256 + (b + 1) : Nat) : Int) = ((a * 256 + b : Nat) : Int) + 1 from by omega], hxi.trans hb2⟩
            case measure => simp [intOf]; omega
          · obtain ⟨hk, hat, hU2⟩ := HHit.out a b k ha1 hlt hb64 hbl HV.out hz
            have HV2 := Lib.hid hU2
            have hlen : L0.length = 724 := rowPairs_len
            have HFk : Hid (∀ (j : Nat) (y : Pr), j < k → L0[j]? = some y → y.2 ≠ rowZ a b) := fun j y hj hy => HFar.out j k y _ (by omega) hy hat
            have hkm : k < m := by have := HM.out; omega
            have hcap : m ≤ cap := pairs_cap hl (by omega)
            have hcap2 : k ≤ cap := by omega
            obtain ⟨x, off, rfl, hxl, hcell⟩ := pairs_at hl (by omega)
            have hce := hcell k _ hat
            simp only at hce
            have e1 : (((a * 256 + b : Nat)) : Int) = (a : Int) * 256 + (b : Int) := by omega
            rw [e1] at hce
            have hp0 : (rowZ a b == 0) = false := beq_false_of_ne hz
            have hpb : 0 ≤ rowZ a b ∧ rowZ a b ≤ 65535 := by
              have h1 := atZ_bd ((a - 161) * 94 + (b - 161)) (by omega)
              rw [atZ_of a b ha1 hb64 hbl] at h1
              exact ⟨h1.1, h1.2.1⟩
            generalize rowZ a b = p at HB HFk hce hp0 hpb
            have HCE := Lib.hid hce
            have HCL := Lib.hid hcell
            have hn2 : decide (m ≤ k) = false := decide_eq_false (by omega)
            clear HHit HMiss HFar HR hU2 hat hcell hce hz e1
            go_wp2_with (go_at_call 5; refine (HB.out _).mono ?_; rintro e w2 ⟨rfl, hb2⟩; have hx2 := hxi.trans hb2; have d0 := (World.cell?_of_block (hx2.block x hxl)).trans HCE.out.1; have d1 := (World.cell?_of_block (hx2.block x hxl)).trans HCE.out.2)
            go_loopw [51] (fun i wi => ∃ j : Nat, j ≤ k ∧ i = .int .i64 j ∧ Ext w1 wi) (fun i _ => k - (intOf i).toNat)
            case atStart => exact ⟨0, by omega, rfl, hx2⟩
            case round =>
              obtain ⟨j, hj, rfl, hxj⟩ := hrel
              clear hx2 hb2 d0 d1
              by_cases hjk : j < k
              · have hjk2 : (j : Int) < k := by omega
                obtain ⟨⟨zc, zp⟩, hz⟩ : ∃ z, L0[j]? = some z := ⟨_, List.getElem?_eq_getElem (by rw [hlen]; have := HM.out; omega)⟩
                have hc := HCL.out j _ hz
                simp only at hc
                have hne : (zp == p) = false := beq_false_of_ne (HFk.out j _ hjk hz)
                have a0' := (World.cell?_of_block (hxj.block x hxl)).trans hc.1
                have a1' := (World.cell?_of_block (hxj.block x hxl)).trans hc.2
                obtain ⟨d5, d6⟩ := new_pair hxj zc zp 26
                clear hz hc
                go_wp2
                go_roundw
                case rel => exact ⟨j + 1, by omega, by go_num, hxj.alloc _⟩
                case measure => simp [intOf]; omega
              · have hjk2 : ¬ (j : Int) < k := by omega
                go_wp2
                go_roundw
                case rel => exact ⟨k + 1, b + 1, by omega, by omega, by go_num, by go_num, by have := HV2.out; show Rpto _ _; rwa [show ((a * 256 + (b + 1) : Nat) : Int) = ((a * 256 + b : Nat) : Int) + 1 from by omega], hxj⟩
                case measure => simp [intOf]; omega
        · have : b = 255 := by omega
          subst this
          have HV2 := Lib.hid (rpto_row HV.out)
          go_wp2
          go_roundw
          case rel => exact ⟨k, a + 1, by omega, by omega, rfl, by go_num, HV2.out, hxi⟩
          case measure => simp [intOf]; omega
    · have : a = 173 := by omega
      subst this
      have hk : k = m := (rpto_last HU.out).trans HM.out.symm
      subst hk
      have hxf := hb1.trans hx
      have HT1 := Lib.hid (HT.out.2.ext hxf)
      clear HHit HMiss HFar HR HU hl
      go_wp2_with (go_at_call 6; refine (awake7 _ HT1.out).mono ?_; rintro e w4 ⟨rfl, hb4⟩)
      go_ret
      exact ⟨rfl, hxf.trans hb4⟩
set_option maxRecDepth 100000 in
theorem lifted (os : Os) (started : os.Started) (H : Type) (enc : TypeId × Value → H) :
    ReturnsInHanded {} Tryz.checked os 3 .any (fun w args => (Rows.wansungRowsSpec.pre enc Tryz.prog Tryz.f3 Rows.wansungRowsRow.domain false w args ∧ laidMetH Tryz.prog Rows.wansungRowsRow.laid w) ∧ sizedMet enc Tryz.prog Tryz.f3 (OpenSpec.ofChange Rows.wansungRowsSpec) false w args)
      (Rows.wansungRowsSpec.post enc Tryz.prog Tryz.f3 false true false false) := by
  refine returnsInHanded_of_change_and (C := Tryz.checked) (X := fun w _ => laidMetH Tryz.prog Rows.wansungRowsRow.laid w) (fun _ _ _ hh h => h.of_heap hh) own started (by kernel_rfl) Tryz.func3
    (ChangeSpec.witness_shaped (enc := enc) (C := Tryz.checked) (os := os) (X := fun w _ => laidMetH Tryz.prog Rows.wansungRowsRow.laid w) false (World.laidAll Tryz.prog os Rows.wansungRowsRow.laid) #[] 8 (World.laidAll_os _ _ _)
      (World.shaped_of_ZipB (by kernel_rfl) (by kernel_rfl)) (by kernel_rfl) (by kernel_rfl) (by kernel_rfl)
      (by rw [MakeChecks.laidMetH_plain _ _ _ (by kernel_rfl)]; exact laidMet_laidAll _ (by kernel_rfl) (by kernel_rfl))) ?_
  intro W base args ds gs before hval0 hW hcnd _ hL _
  have hT : Tabs W := tabs_of hL
  have hval : ∀ (j : Nat) t v, Tryz.f3.params[j]? = some t → args[j]? = some v → Value.okWide Tryz.prog W .any base t v := hval0
  have hW' := hW
  obtain ⟨p, q, hA0, hV, rfl, hfz, hnd⟩ := hW
  have hA : DataW.TrodAll enc Tryz.prog W 0 (fun _ => true) true Tryz.f3.params.toList args.toList ds p := hA0
  rw [Tryz.params3] at hA hval
  obtain ⟨hnil, rfl, rfl⟩ := trodAll_nil hA
  obtain rfl : args = #[] := by cases args; simp_all
  obtain ⟨rfl, rfl⟩ := trodVars_none hV
  clear hA0 hval0
  try simp only [List.append_nil] at hW'
  refine (walk W hT).mono fun e W' ⟨he, bel⟩ => ?_
  subst he
  exact ⟨_, rfl, _, _, _, [], [], [], hW', trodAll_mk1 (shut_bool Tryz.underlying4 _), trodAll_mk0, rfl, bel.frame _, fun h => by cases h⟩

theorem over : Rows.wansungRowsRow.holds Tryz.pinned (OpenSpec.ofChange Rows.wansungRowsSpec) :=
  OpenClaim.holds_of_wide 3 Tryz.f3 rfl rfl rfl rfl rfl rfl rfl ⟨rfl, rfl, rfl, rfl, rfl⟩ rfl rfl rfl rfl rfl (by kernel_rfl) Tryz.func3 (by kernel_rfl)
    (of_decide_eq_true (by kernel_rfl)) (by unfold Func.isWrapper; first | (rw [if_pos (by decide +kernel)]; kernel_rfl) | (rw [if_neg (by decide +kernel)]; exact ⟨rfl, rfl⟩))
    (fun os started H enc _ => lifted os started H enc)

theorem said : Rows.WansungRowsSaid := over
theorem plain (f : FuncId) (fn : Func) (hf : Tryz.pinned.checked.prog.funcNamed "diacritic/diacriticlaw07.WansungRows" = some f) (hfn : Tryz.pinned.checked.prog.funcs[f]? = some fn) :
    Rows.wansungRowsCard.stood.looks = Tryz.pinned.checked.prog.looks [] ∧ ∀ (j : Nat) t, fn.params[j]? = some t → Tryz.pinned.checked.prog.wantsStandIn t = false := by
  obtain rfl : f = 3 := Option.some.inj ((show Tryz.prog.funcNamed "diacritic/diacriticlaw07.WansungRows" = some 3 by kernel_rfl).symm.trans hf) |>.symm
  obtain rfl : fn = Tryz.f3 := (Option.some.inj (Tryz.func3.symm.trans hfn)).symm
  refine ⟨by kernel_rfl, fun j t ht => ?_⟩
  rw [Tryz.params3] at ht
  have hm : t ∈ [] := by simpa using Array.mem_of_getElem? ht
  have hall : ([].all fun u => !Tryz.prog.wantsStandIn u) = true := by kernel_rfl
  exact (show Tryz.prog.wantsStandIn t = false by simpa using List.all_eq_true.1 hall t hm)
/-- THE CARD. -/
theorem proved : Rows.WansungRowsCardSaid :=
  Claim7.holds_tied_plain_at .later [] _ _ _ _ said (fun _ h => by cases h) (by kernel_rfl) (fun _ h => by cases h) wansungRows_row_tie rfl ⟨rfl, rfl⟩ (by kernel_rfl) rfl plain (by kernel_rfl)
#print axioms proved

end Go.Proofs.YtmfafdgmggcoiaaGreatDoor.wansungRows
