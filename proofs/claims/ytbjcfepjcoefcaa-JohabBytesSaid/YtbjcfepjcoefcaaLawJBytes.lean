/-
  The law JohabBytes holds at every sign: its two bytes, or that there are none, are the document's; they lead back to it.
  Conditions: none beyond the row's own.
-/
import Derived.Test.YtbjcfepjcoefcaaJc5
import Derived.ChangeMaps
namespace Go.Proofs.Ytbjcfepjcoefcaa.johabBytes
open Go Go.Proofs.Ytbjcfepjcoefcaa Go.ChangeShapes Go.WideShapes Go.ChangeAt Go.RowKit
open Go.ChangeMaps (open_string shut_string)
set_option linter.unusedSimpArgs false
set_option linter.unusedVariables false

theorem own : ownKnob Try.prog.godebug = none := by kernel_rfl
theorem conv_two (u v : UInt8) (w : World) : (convert 30 9 (.slice (some ⟨w.heap.size, 0, none⟩) 2 2)).run Try.prog (w.alloc (.cells #[.int .u8 u.toNat, .int .u8 v.toNat] 5)) = .ok (.string ⟨#[u, v]⟩) (w.alloc (.cells #[.int .u8 u.toNat, .int .u8 v.toNat] 5)) := by
  have h := run_convert_bytes_arg (P := Try.prog) (w.alloc (.cells #[.int .u8 u.toNat, .int .u8 v.toNat] 5)) 30 5 Try.underlying30 Try.underlying5 w.heap.size 0 2 2 [(u.toNat : Int), (v.toNat : Int)] (by simp) (fun i hi => by
    have h1 := heap_alloc_new w (.cells #[.int .u8 u.toNat, .int .u8 v.toNat] 5)
    simp only [World.cell?, h1]
    have : i = 0 ∨ i = 1 := by omega
    rcases this with rfl | rfl <;> rfl) 9 Try.underlying9
  rw [h]
  congr 2
  unfold strOfNums
  simp
theorem walk_no (p : Int) (h : inB p = false) (hlo : -2147483648 ≤ p) (hhi : p ≤ 2147483647) (W : World) : Calls Try.prog 4 #[.int .i32 p] W fun e w' => e = .returned (.bool true) ∧ Ext W w' := by
  have HB := Lib.hid (fun w => bytes_no p w h hlo hhi)
  have HC := Lib.hid (fun w => rcode p w)
  rw [code_none p h] at HC
  clear h
  go_enter Try.func4, Try.ntmps4
  go_wp2_with (first
    | (go_at_call 10; refine (HB.out _).mono ?_; rintro e w1 ⟨rfl, hb1⟩)
    | (go_at_call 11; refine (HC.out _).mono ?_; rintro e w2 ⟨rfl, hb2⟩)
    | (go_at_call 9; refine (awake6 _).mono ?_; rintro e w4 ⟨rfl, hb4⟩))
  go_ret
  exact ⟨rfl, (hb1.trans hb2).trans hb4⟩
set_option maxRecDepth 100000 in
theorem walk_yes (p : Int) (h : inB p = true) (W : World) : Calls Try.prog 4 #[.int .i32 p] W fun e w' => e = .returned (.bool true) ∧ Ext W w' := by
  obtain ⟨g1, g2, g3⟩ := back_ok p h
  obtain ⟨u, v, huv, hu, hv⟩ := two_of (backP p).toNat (by omega)
  have HB := Lib.hid (fun w => bytes_yes p w h)
  have HC := Lib.hid (fun w => rcode p w)
  rw [back_code p h] at HC
  have HS := Lib.hid (fun w => sign_u u v w)
  rw [← huv, g1] at HS
  rw [huv, twoB_uv] at HB
  have hp := (inB_iff p).1 h
  unfold SignOut at HS
  rw [nz_yes (by omega)] at HS
  obtain ⟨c, hc⟩ : ∃ c, c = backP p := ⟨_, rfl⟩
  rw [← hc] at HC g2 g3
  have hq : c / 256 = (u.toNat : Int) := by omega
  have hm : c % 256 = (v.toNat : Int) := by omega
  have c0 : 0 ≤ c := by omega
  have hn : ¬ c < 0 := by omega
  have b1 : (u.toNat : Int) < 256 := by have := u.toNat_lt; omega
  have b2 : (v.toNat : Int) < 256 := by have := v.toNat_lt; omega
  have hx0 : (⟨#[u, v]⟩ : ByteArray)[0]'(show 0 < 2 by omega) = u := rfl
  have hx1 : (⟨#[u, v]⟩ : ByteArray)[1]'(show 1 < 2 by omega) = v := rfl
  clear g1 huv hu hv hp hc h
  go_enter Try.func4, Try.ntmps4
  go_wp2_with (first
    | (go_at_call 10; refine (HB.out _).mono ?_; rintro e w1 ⟨rfl, hb1⟩)
    | (go_at_call 11; refine (HC.out _).mono ?_; rintro e w2 ⟨rfl, hb2⟩; have hcv := conv_two u v w2))
  clear hcv
  go_region_with (go_at_call 7; refine (HS.out _).mono ?_; rintro e w3 ⟨rfl, hb3⟩)
  go_wp2_with (go_at_call 9; refine (awake6 _).mono ?_; rintro e w4 ⟨rfl, hb4⟩)
  all_goals
    go_ret
    exact ⟨rfl, (((hb1.trans hb2).alloc _).drew.trans hb3).trans hb4⟩
theorem walk (a : Int) (ha : (Lit.int .i32 a).wf = true) (W : World) : Calls Try.prog 4 #[.int .i32 a] W fun e w' => e = .returned (.bool true) ∧ Ext W w' := by
  cases h : inB a with
  | true => exact walk_yes a h W
  | false => exact walk_no a h (i32_of ha).1 (i32_of ha).2 W
set_option maxRecDepth 100000 in
theorem lifted (os : Os) (started : os.Started) (H : Type) (enc : TypeId × Value → H) :
    ReturnsInHanded {} Try.checked os 4 .any (Rows.johabBytesSpec.pre6 enc Try.prog Try.f4 Rows.johabBytesRow.domain false) (Rows.johabBytesSpec.post enc Try.prog Try.f4 false true false false) := by
  refine returnsInHanded_of_change (C := Try.checked) own started (by kernel_rfl) Try.func4
    (ChangeSpec.witness6 (enc := enc) (C := Try.checked) false ⟨#[], #[.int .i32 0], []⟩ 8 (by kernel_rfl) (by kernel_rfl) (by kernel_rfl) (by kernel_rfl)) ?_
  intro W base args ds gs before hval0 hW hcnd _
  have hval : ∀ (j : Nat) t v, Try.f4.params[j]? = some t → args[j]? = some v → Value.okWide Try.prog W .any base t v := hval0
  have hW' := hW
  obtain ⟨p, q, hA0, hV, rfl, hfz, hnd⟩ := hW
  have hA : DataW.TrodAll enc Try.prog W 0 (fun _ => true) true Try.f4.params.toList args.toList ds p := hA0
  rw [Try.params4] at hA hval
  obtain ⟨v0, vs0, d0, ds0, p0, q0, hargs, rfl, rfl, h0, r0⟩ := trodAll_cons hA
  obtain ⟨rfl, rfl, rfl⟩ := trodAll_nil r0
  obtain rfl : args = #[v0] := by cases args; simp_all
  obtain ⟨rfl, rfl⟩ := trodVars_none hV
  obtain ⟨a0, rfl, rfl, rfl, w0⟩ := open_int Try.underlying21 (hval 0 21 v0 rfl rfl) h0
  clear hA0 hval0
  try simp only [List.append_nil] at hW'
  refine (walk a0 w0 W).mono fun e W' ⟨he, bel⟩ => ?_
  subst he
  exact ⟨_, rfl, _, _, _, [], [], [], hW', trodAll_mk1 (shut_bool Try.underlying4 _), (trodAll_cons_mk (shut_int Try.underlying21 w0) trodAll_mk0), rfl, bel.frame _, fun h => by cases h⟩

theorem over : Rows.johabBytesRow.holds Try.pinned (OpenSpec.ofChange Rows.johabBytesSpec) :=
  OpenClaim.holds_of_wide 4 Try.f4 rfl rfl rfl rfl rfl rfl rfl ⟨rfl, rfl, rfl, rfl, rfl⟩ rfl rfl rfl rfl rfl (by kernel_rfl) Try.func4 (by kernel_rfl)
    (of_decide_eq_true (by kernel_rfl)) (by unfold Func.isWrapper; first | (rw [if_pos (by decide +kernel)]; kernel_rfl) | (rw [if_neg (by decide +kernel)]; exact ⟨rfl, rfl⟩))
    (fun os started H enc _ => lifted os started H enc)

/-- THE STATEMENT. -/
theorem proved : Rows.JohabBytesSaid := over
#print axioms proved

end Go.Proofs.Ytbjcfepjcoefcaa.johabBytes
