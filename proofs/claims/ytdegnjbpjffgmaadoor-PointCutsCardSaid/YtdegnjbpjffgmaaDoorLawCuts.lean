/-
  The law PointCuts holds at every list of numbers and every text: of two texts, one behind the other, the first made of signs, what is wrong is wrong in the second, so many bytes further.
  Conditions: none beyond the row's own.
-/
import Derived.Test.YtdegnjbpjffgmaaDoorLawCutsB
import Derived.ChangeMaps
import Derived.ChangeSlices
import Derived.ChangeOld
import Derived.Deep.RegionHeld3
import Derived.IntWalk
namespace Go.Proofs.YtdegnjbpjffgmaaDoor.pointCuts
open Go Go.Proofs.YtdegnjbpjffgmaaDoor Go.ChangeShapes Go.WideShapes Go.ChangeAt Go.RowKit
open Go.ChangeMaps (open_string shut_string)
set_option linter.unusedSimpArgs false
set_option linter.unusedVariables false

theorem walk (a : Option Addr) (len cap : Nat) (zs : List Int) (s : ByteArray) {w : World} (hR : IsRow w a len cap zs) (W : World) (e : W = w) (hT : Tabs W) :
    Calls Tryd.prog 7 #[.slice a len cap, .string s] W fun e w' => e = .returned (.bool true) ∧ Ext W w' := by
  subst e
  by_cases h0 : 200 < (len : Int)
  · exact walk_long a len cap s W hT h0
  by_cases h1 : 500 < (s.size : Int)
  · exact walk_long2 a len cap s W hT h0 h1
  have hzl := hR.1
  have hX : ∀ w1, Ext W w1 → Calls Tryd.prog 8 #[.slice a len cap] w1 fun e w' => e = .returned (.tuple #[.string (textOut zs), .bool (allSigns zs)]) ∧ Ext w1 w' := fun w1 hx => text_row hR hx (by omega)
  cases hz : allSigns zs
  · rw [hz] at hX
    exact walk_none a len cap s W hT h0 h1 _ hX
  · rw [hz] at hX
    have hu := text_size hz
    have happ := badS_append hz s
    have hasz : (textOut zs ++ s).size = (textOut zs).size + s.size := ByteArray.size_append
    by_cases hb : badS s < 0
    · rw [if_pos hb] at happ
      exact walk_good a len cap s W hT h0 h1 _ (by omega) hX (fun w1 h => check_no s w1 h (by omega) hb) (fun w1 h => check_no _ w1 h (by omega) (by rw [happ]; decide))
    · rw [if_neg hb] at happ
      have hlt := badS_lt s
      exact walk_bad a len cap s W hT h0 h1 _ (by omega) (badS s) hX (fun w1 h => check_yes s w1 h (by omega) _ rfl hb) (fun w1 h => check_yes _ w1 h (by omega) _ happ (by omega)) (by omega) (by omega)
set_option maxRecDepth 100000 in
theorem lifted (os : Os) (started : os.Started) (H : Type) (enc : TypeId × Value → H) :
    ReturnsInHanded {} Tryd.checked os 7 .any (fun w args => (Rows.pointCutsSpec.pre enc Tryd.prog Tryd.f7 Rows.pointCutsRow.domain false w args ∧ laidMetH Tryd.prog Rows.pointCutsRow.laid w) ∧ sizedMet enc Tryd.prog Tryd.f7 (OpenSpec.ofChange Rows.pointCutsSpec) false w args)
      (Rows.pointCutsSpec.post enc Tryd.prog Tryd.f7 false true false false) := by
  refine returnsInHanded_of_change_and (C := Tryd.checked) (X := fun w _ => laidMetH Tryd.prog Rows.pointCutsRow.laid w) (fun _ _ _ hh h => h.of_heap hh) own started (by kernel_rfl) Tryd.func7
    (ChangeSpec.witness_shaped (enc := enc) (C := Tryd.checked) (os := os) (X := fun w _ => laidMetH Tryd.prog Rows.pointCutsRow.laid w) false (World.laidAll Tryd.prog os Rows.pointCutsRow.laid) #[.slice none 0 0, .string ByteArray.empty] 8 (World.laidAll_os _ _ _)
      (World.shaped_of_ZipB (by kernel_rfl) (by kernel_rfl)) (by kernel_rfl) (by kernel_rfl) (by kernel_rfl)
      (by rw [MakeChecks.laidMetH_plain _ _ _ (by kernel_rfl)]; exact laidMet_laidAll _ (by kernel_rfl) (by kernel_rfl))) ?_
  intro W base args ds gs before hval0 hW hcnd _ hL _
  have hT : Tabs W := tabs_of hL
  have hval : ∀ (j : Nat) t v, Tryd.f7.params[j]? = some t → args[j]? = some v → Value.okWide Tryd.prog W .any base t v := hval0
  have hW' := hW
  obtain ⟨p, q, hA0, hV, rfl, hfz, hnd⟩ := hW
  have hA : DataW.TrodAll enc Tryd.prog W 0 (fun _ => true) true Tryd.f7.params.toList args.toList ds p := hA0
  rw [Tryd.params7] at hA hval
  obtain ⟨v0, vs0, d0, ds0, p0, q0, hargs, rfl, rfl, h0, r0⟩ := trodAll_cons hA
  obtain ⟨v1, vs1, d1, ds1, p1, q1, rfl, rfl, rfl, h1, r1⟩ := trodAll_cons r0
  obtain ⟨rfl, rfl, rfl⟩ := trodAll_nil r1
  obtain rfl : args = #[v0, v1] := by cases args; simp_all
  obtain ⟨rfl, rfl⟩ := trodVars_none hV
  obtain ⟨a0, len0, cap0, rfl⟩ := okWide_slice Tryd.underlying27 (hval 0 27 v0 rfl rfl)
  have k0 := h0
  have lt0 : ∀ x ∈ p0, x.block < W.heap.size := by obtain ⟨m, hm⟩ := k0; exact DataW.trod_lt m _ _ _ hm
  obtain ⟨z0, w0⟩ : ∃ zs, IsRow W a0 len0 cap0 zs := by
    obtain ⟨fuel, hf⟩ := h0
    rcases open_ints Tryd.underlying27 Tryd.underlying21 (by kernel_rfl) hf with ⟨hcs, _⟩ | ⟨x, len', cap', zs, hcs, _, hl, hm, hz, hx, hcell, hwz⟩
    · simp [Value.cells] at hcs
      obtain ⟨rfl, rfl, rfl⟩ := hcs
      exact ⟨[], rfl, .inl rfl⟩
    · simp [Value.cells] at hcs
      obtain ⟨rfl, rfl, rfl⟩ := hcs
      exact ⟨zs.take _, isRow_of hl (by simpa using hz) hcell⟩
  obtain ⟨a1, rfl, rfl, rfl, w1⟩ := open_string Tryd.underlying9 (hval 1 9 v1 rfl rfl) h1
  clear hA0 hval0
  refine (walk a0 len0 cap0 z0 a1 w0 W rfl hT).mono fun e W' ⟨he, bel⟩ => ?_
  subst he
  exact ⟨_, rfl, _, _, _, [], _, [], hW', trodAll_mk1 (shut_bool Tryd.underlying4 _), (trodAll_cons_mk (Below.trod laidOut (by kernel_rfl) (of_decide_eq_true (by kernel_rfl)) k0 bel lt0) (trodAll_cons_mk (shut_string Tryd.underlying9 w1) trodAll_mk0)), rfl, bel.frame _, fun h => by cases h⟩

theorem over : Rows.pointCutsRow.holds Tryd.pinned (OpenSpec.ofChange Rows.pointCutsSpec) :=
  OpenClaim.holds_of_wide 7 Tryd.f7 rfl rfl rfl rfl rfl rfl rfl ⟨rfl, rfl, rfl, rfl, rfl⟩ rfl rfl rfl rfl rfl (by kernel_rfl) Tryd.func7 (by kernel_rfl)
    (of_decide_eq_true (by kernel_rfl)) (by unfold Func.isWrapper; first | (rw [if_pos (by decide +kernel)]; kernel_rfl) | (rw [if_neg (by decide +kernel)]; exact ⟨rfl, rfl⟩))
    (fun os started H enc _ => lifted os started H enc)

theorem said : Rows.PointCutsSaid := over
theorem plain (f : FuncId) (fn : Func) (hf : Tryd.pinned.checked.prog.funcNamed "diacritic/diacriticlaw02.PointCuts" = some f) (hfn : Tryd.pinned.checked.prog.funcs[f]? = some fn) :
    false = Tryd.pinned.checked.prog.looks [] ∧ ∀ (j : Nat) t, fn.params[j]? = some t → Tryd.pinned.checked.prog.wantsStandIn t = false := by
  obtain rfl : f = 7 := Option.some.inj ((show Tryd.prog.funcNamed "diacritic/diacriticlaw02.PointCuts" = some 7 by kernel_rfl).symm.trans hf) |>.symm
  obtain rfl : fn = Tryd.f7 := (Option.some.inj (Tryd.func7.symm.trans hfn)).symm
  refine ⟨by kernel_rfl, fun j t ht => ?_⟩
  rw [Tryd.params7] at ht
  have hm : t ∈ [27, 9] := by simpa using Array.mem_of_getElem? ht
  have hall : ([27, 9].all fun u => !Tryd.prog.wantsStandIn u) = true := by kernel_rfl
  exact (show Tryd.prog.wantsStandIn t = false by simpa using List.all_eq_true.1 hall t hm)
/-- THE CARD. -/
theorem proved : Rows.PointCutsCardSaid :=
  Claim7.holds_tied_plain_at .later [] _ _ _ _ said (fun _ h => by cases h) (by kernel_rfl) (fun _ h => by cases h) pointCuts_row_tie rfl ⟨rfl, rfl⟩ (by kernel_rfl) rfl plain (by kernel_rfl)
#print axioms proved

end Go.Proofs.YtdegnjbpjffgmaaDoor.pointCuts
