/-
  The law BigPairs holds: all pairs of bytes that have one sign, by rising codes, are the document's, 610 of them; no two have one sign.
  Conditions: none: a closed sentence.
-/
import Derived.Test.YtabcneomeemnpaaDoorBl5
import Derived.Test.YtabcneomeemnpaaDoorBl2
import Derived.Test.YtabcneomeemnpaaDoorBlT
namespace Go.Proofs.YtabcneomeemnpaaDoor.bigPairs
open Go Go.Proofs.YtabcneomeemnpaaDoor Go.ChangeShapes Go.WideShapes Go.ChangeAt Go.RowKit
open Go.ChangeMaps (open_string shut_string)
set_option linter.unusedSimpArgs false
set_option linter.unusedVariables false

theorem own : ownKnob Tryd.prog.godebug = none := by kernel_rfl
abbrev Tabs (w : World) : Prop := _root_.Go.Proofs.YtabcneomeemnpaaDoor.Tabs w ∧ Tab8 w
theorem tabs_of {W : World} (h : laidMetH Tryd.prog Rows.bigPairsRow.laid W) : Tabs W := ⟨_root_.Go.Proofs.YtabcneomeemnpaaDoor.tabs_of h, tab8_of h⟩
def L0 : List Pr := Go.Proofs.YtabcneomeemnpaaDoor.bigPairs
theorem new_pair {W w : World} (hx : Ext W w) (c p : Int) (t : TypeId) : ((w.alloc (.cells #[.int .i64 c, .int .i32 p] t)).cell? ⟨w.heap.size, 0, none⟩ = some (.int .i64 c) ∧ (w.alloc (.cells #[.int .i64 c, .int .i32 p] t)).cell? ⟨w.heap.size, 1, none⟩ = some (.int .i32 p)) := (facts2 (heap_alloc_new w (.cells #[.int .i64 c, .int .i32 p] t))).1
theorem pairs_cap {w : World} {a : Option Addr} {n cap : Nat} {l : List Pr} (h : IsPairs w a n cap l) (h0 : 0 < n) : n ≤ cap := by
  obtain ⟨h1, h2 | ⟨x, off, _, hc, _⟩⟩ := h
  · omega
  · exact hc
set_option maxRecDepth 100000 in
set_option maxHeartbeats 4000000 in
theorem walk (W : World) (hT : Tabs W) : Calls Tryd.prog 6 #[] W fun e w' => e = .returned (.bool true) ∧ Ext W w' := by
  obtain ⟨m, hm⟩ : ∃ m : Nat, m = 610 := ⟨_, rfl⟩
  have HT := Lib.hid hT
  have HP : Hid (Calls Tryd.prog 13 #[] W fun e w' => ∃ a cap, e = .returned (.slice a m cap) ∧ IsPairs w' a m cap L0 ∧ Ext W w') := by
    rw [hm]
    exact big_pairs W hT.1
  have HM := Lib.hid hm
  have hm1 : ((m : Int) == 610) = true := by rw [hm]; decide
  have hm2 : (m : Int) ≤ 610 := by omega
  clear hm hT
  have HR := Lib.hid (fun (a b : Nat) (h : b ≤ 255) (w : World) => rone8 a (b : Int) w (by omega) (by omega))
  have HHit := Lib.hid (fun (a b k : Nat) (h : Upto (((a * 256 + b : Nat)) : Int) k) (hz : oneB a b ≠ 0) => upto_hit h hz)
  have HMiss := Lib.hid (fun (a b k : Nat) (hb : b < 256) (h : Upto (((a * 256 + b : Nat)) : Int) k) (hz : oneB a b = 0) => upto_miss hb h hz)
  have HFar := Lib.hid (fun (i j : Nat) (x y : Pr) (h : i ≠ j) (hx : L0[i]? = some x) (hy : L0[j]? = some y) => bigPairs_far h hx hy)
  go_enter Tryd.func6, Tryd.ntmps6
  go_wp2_with (go_at_call 13; refine HP.out.mono ?_; rintro e w1 ⟨pa, cap, rfl, hl, hb1⟩)
  go_loopw [2, 3] (fun k a wr => ∃ (k0 a0 : Nat), a0 ≤ 255 ∧ 129 ≤ a0 ∧ k = .int .i64 k0 ∧ a = .int .i64 a0 ∧ Hid (Upto (((a0 * 256 + 64 : Nat)) : Int) k0) ∧ Ext w1 wr) (fun _ a _ => 255 - (intOf a).toNat)
  case atStart => exact ⟨0, 129, by omega, by omega, rfl, rfl, upto_first, Ext.refl _⟩
  case round =>
    obtain ⟨k, a, ha, ha1, rfl, rfl, HU, hx⟩ := hrel
    by_cases hlt : a < 255
    · have h8 : (a : Int) < 255 := by omega
      go_wp2
      go_loopw [2, 4] (fun k b wi => ∃ (k0 b0 : Nat), b0 ≤ 255 ∧ 64 ≤ b0 ∧ k = .int .i64 k0 ∧ b = .int .i64 b0 ∧ Hid (Upto (((a * 256 + b0 : Nat)) : Int) k0) ∧ Ext w1 wi) (fun _ b _ => 255 - (intOf b).toNat)
      case atStart => exact ⟨k, 64, by omega, by omega, rfl, rfl, HU, hx⟩
      case round =>
        obtain ⟨k, b, hb, hb64, rfl, rfl, HV, hxi⟩ := hrel
        clear HU hx
        by_cases hbl : b < 255
        · have h9 : (b : Int) < 255 := by omega
          have HB := Lib.hid (fun w => HR.out a b hb w)
          by_cases hz : oneB a b = 0
          · have HV2 := Lib.hid (HMiss.out a b k (by omega) HV.out hz)
            rw [hz] at HB
            clear HHit HMiss HFar HR
            go_wp2_with (go_at_call 14; refine (HB.out _).mono ?_; rintro e w2 ⟨rfl, hb2⟩)
            go_roundw
            case rel => exact ⟨k, b + 1, by omega, by omega, rfl, by go_num, by have := HV2.out; show Upto _ _; rwa [show ((a * 256 + (b + 1) : Nat) : Int) = ((a * 256 + b : Nat) : Int) + 1 from by omega], hxi.trans hb2⟩
            case measure => simp [intOf]; omega
          · obtain ⟨hk, hat, hU2⟩ := HHit.out a b k HV.out hz
            have HV2 := Lib.hid hU2
            have hlen : L0.length = 610 := bigPairs_len
            have HFk : Hid (∀ (j : Nat) (y : Pr), j < k → L0[j]? = some y → y.2 ≠ oneB a b) := fun j y hj hy => HFar.out j k y _ (by omega) hy hat
            have hkm : k < m := by have := HM.out; omega
            have hcap : m ≤ cap := pairs_cap hl (by omega)
            have hcap2 : k ≤ cap := by omega
            obtain ⟨x, off, rfl, hxl, hcell⟩ := pairs_at hl (by omega)
            have hce := hcell k _ hat
            simp only at hce
            have e1 : (((a * 256 + b : Nat)) : Int) = (a : Int) * 256 + (b : Int) := by omega
            rw [e1] at hce
            have hp0 : (oneB a b == 0) = false := beq_false_of_ne hz
            have hpb := oneB_bd a b
            have hat2 : ∃ p, p = oneB a b := ⟨_, rfl⟩
            generalize oneB a b = p at HB HFk hce hp0 hpb
            have HCE := Lib.hid hce
            have HCL := Lib.hid hcell
            have hn2 : decide (m ≤ k) = false := decide_eq_false (by omega)
            clear HHit HMiss HFar HR hU2 hat hcell hce hz hat2 e1
            go_wp2_with (go_at_call 14; refine (HB.out _).mono ?_; rintro e w2 ⟨rfl, hb2⟩; have hx2 := hxi.trans hb2; have d0 := (World.cell?_of_block (hx2.block x hxl)).trans HCE.out.1; have d1 := (World.cell?_of_block (hx2.block x hxl)).trans HCE.out.2)
            go_loopw [51] (fun i wi => ∃ j : Nat, j ≤ k ∧ i = .int .i64 j ∧ Ext w1 wi) (fun i _ => k - (intOf i).toNat)
            case atStart => exact ⟨0, by omega, rfl, hx2⟩
            case round =>
              obtain ⟨j, hj, rfl, hxj⟩ := hrel
              clear hx2 hb2 d0 d1
              by_cases hjk : j < k
              · have hjk2 : (j : Int) < k := by omega
                obtain ⟨⟨zc, zp⟩, hz⟩ : ∃ z, L0[j]? = some z := ⟨_, List.getElem?_eq_getElem (by rw [hlen]; have := HM.out; omega)⟩
                have hc := HCL.out j _ hz
                simp only at hc
                have hne : (zp == p) = false := beq_false_of_ne (HFk.out j _ hjk hz)
                have a0' := (World.cell?_of_block (hxj.block x hxl)).trans hc.1
                have a1' := (World.cell?_of_block (hxj.block x hxl)).trans hc.2
                obtain ⟨d5, d6⟩ := new_pair hxj zc zp 41
                clear hz hc
                go_wp2
                go_roundw
                case rel => exact ⟨j + 1, by omega, by go_num, hxj.alloc _⟩
                case measure => simp [intOf]; omega
              · have hjk2 : ¬ (j : Int) < k := by omega
                go_wp2
                go_roundw
                case rel => exact ⟨k + 1, b + 1, by omega, by omega, by go_num, by go_num, by have := HV2.out; show Upto _ _; rwa [show ((a * 256 + (b + 1) : Nat) : Int) = ((a * 256 + b : Nat) : Int) + 1 from by omega], hxj⟩
                case measure => simp [intOf]; omega
        · have : b = 255 := by omega
          subst this
          have HV2 := Lib.hid (upto_row HV.out)
          go_wp2
          go_roundw
          case rel => exact ⟨k, a + 1, by omega, by omega, rfl, by go_num, HV2.out, hxi⟩
          case measure => simp [intOf]; omega
    · have : a = 255 := by omega
      subst this
      have hk : k = m := (upto_last HU.out).trans HM.out.symm
      subst hk
      have hxf := hb1.trans hx
      have HT1 := Lib.hid (HT.out.2.ext hxf)
      clear HHit HMiss HFar HR HU hl
      go_wp2_with (go_at_call 9; refine (awake8 _ HT1.out).mono ?_; rintro e w4 ⟨rfl, hb4⟩)
      go_ret
      exact ⟨rfl, hxf.trans hb4⟩
set_option maxRecDepth 100000 in
theorem lifted (os : Os) (started : os.Started) (H : Type) (enc : TypeId × Value → H) :
    ReturnsInHanded {} Tryd.checked os 6 .any (fun w args => (Rows.bigPairsSpec.pre enc Tryd.prog Tryd.f6 Rows.bigPairsRow.domain false w args ∧ laidMetH Tryd.prog Rows.bigPairsRow.laid w) ∧ sizedMet enc Tryd.prog Tryd.f6 (OpenSpec.ofChange Rows.bigPairsSpec) false w args)
      (Rows.bigPairsSpec.post enc Tryd.prog Tryd.f6 false true false false) := by
  refine returnsInHanded_of_change_and (C := Tryd.checked) (X := fun w _ => laidMetH Tryd.prog Rows.bigPairsRow.laid w) (fun _ _ _ hh h => h.of_heap hh) own started (by kernel_rfl) Tryd.func6
    (ChangeSpec.witness_shaped (enc := enc) (C := Tryd.checked) (os := os) (X := fun w _ => laidMetH Tryd.prog Rows.bigPairsRow.laid w) false (World.laidAll Tryd.prog os Rows.bigPairsRow.laid) #[] 8 (World.laidAll_os _ _ _)
      (World.shaped_of_ZipB (by kernel_rfl) (by kernel_rfl)) (by kernel_rfl) (by kernel_rfl) (by kernel_rfl)
      (by rw [MakeChecks.laidMetH_plain _ _ _ (by kernel_rfl)]; exact laidMet_laidAll _ (by kernel_rfl) (by kernel_rfl))) ?_
  intro W base args ds gs before hval0 hW hcnd _ hL _
  have hT : Tabs W := tabs_of hL
  have hval : ∀ (j : Nat) t v, Tryd.f6.params[j]? = some t → args[j]? = some v → Value.okWide Tryd.prog W .any base t v := hval0
  have hW' := hW
  obtain ⟨p, q, hA0, hV, rfl, hfz, hnd⟩ := hW
  have hA : DataW.TrodAll enc Tryd.prog W 0 (fun _ => true) true Tryd.f6.params.toList args.toList ds p := hA0
  rw [Tryd.params6] at hA hval
  obtain ⟨hnil, rfl, rfl⟩ := trodAll_nil hA
  obtain rfl : args = #[] := by cases args; simp_all
  obtain ⟨rfl, rfl⟩ := trodVars_none hV
  clear hA0 hval0
  try simp only [List.append_nil] at hW'
  refine (walk W hT).mono fun e W' ⟨he, bel⟩ => ?_
  subst he
  exact ⟨_, rfl, _, _, _, [], [], [], hW', trodAll_mk1 (shut_bool Tryd.underlying4 _), trodAll_mk0, rfl, bel.frame _, fun h => by cases h⟩

theorem over : Rows.bigPairsRow.holds Tryd.pinned (OpenSpec.ofChange Rows.bigPairsSpec) :=
  OpenClaim.holds_of_wide 6 Tryd.f6 rfl rfl rfl rfl rfl rfl rfl ⟨rfl, rfl, rfl, rfl, rfl⟩ rfl rfl rfl rfl rfl (by kernel_rfl) Tryd.func6 (by kernel_rfl)
    (of_decide_eq_true (by kernel_rfl)) (by unfold Func.isWrapper; first | (rw [if_pos (by decide +kernel)]; kernel_rfl) | (rw [if_neg (by decide +kernel)]; exact ⟨rfl, rfl⟩))
    (fun os started H enc _ => lifted os started H enc)

theorem said : Rows.BigPairsSaid := over
theorem plain (f : FuncId) (fn : Func) (hf : Tryd.pinned.checked.prog.funcNamed "diacritic/diacriticlaw08.BigPairs" = some f) (hfn : Tryd.pinned.checked.prog.funcs[f]? = some fn) :
    Rows.bigPairsCard.stood.looks = Tryd.pinned.checked.prog.looks [] ∧ ∀ (j : Nat) t, fn.params[j]? = some t → Tryd.pinned.checked.prog.wantsStandIn t = false := by
  obtain rfl : f = 6 := Option.some.inj ((show Tryd.prog.funcNamed "diacritic/diacriticlaw08.BigPairs" = some 6 by kernel_rfl).symm.trans hf) |>.symm
  obtain rfl : fn = Tryd.f6 := (Option.some.inj (Tryd.func6.symm.trans hfn)).symm
  refine ⟨by kernel_rfl, fun j t ht => ?_⟩
  rw [Tryd.params6] at ht
  have hm : t ∈ [] := by simpa using Array.mem_of_getElem? ht
  have hall : ([].all fun u => !Tryd.prog.wantsStandIn u) = true := by kernel_rfl
  exact (show Tryd.prog.wantsStandIn t = false by simpa using List.all_eq_true.1 hall t hm)
/-- THE CARD. -/
theorem proved : Rows.BigPairsCardSaid :=
  Claim7.holds_tied_plain_at .later [] _ _ _ _ said (fun _ h => by cases h) (by kernel_rfl) (fun _ h => by cases h) bigPairs_row_tie rfl ⟨rfl, rfl⟩ (by kernel_rfl) rfl plain (by kernel_rfl)
#print axioms proved

end Go.Proofs.YtabcneomeemnpaaDoor.bigPairs
