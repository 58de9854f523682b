/-
  The law TailSplits holds at every text and every tail: a tail behind any bytes is split off as it was; both parts are the file.
  Conditions: none beyond the row's own.
-/
import Derived.Test.YtbdjncnofpbkkaaTa9
import Derived.ChangeMaps
namespace Go.Proofs.Ytbdjncnofpbkkaa.tailSplits
open Go Go.Proofs.Ytbdjncnofpbkkaa Go.ChangeShapes Go.WideShapes Go.ChangeAt Go.RowKit
open Go.ChangeMaps (open_string shut_string)
set_option linter.unusedSimpArgs false
set_option linter.unusedVariables false

theorem laidOut : laidOutB Try.prog = true := by kernel_rfl
theorem own : ownKnob Try.prog.godebug = none := by kernel_rfl
/-- What is split off: both parts are the file. -/
theorem parts (b : ByteArray) (hs : b.size ≤ 100000) : ∃ x y : ByteArray, x ++ y = b ∧ ∀ w, Calls Try.prog 21 #[.string b] w fun e w' => e = .returned (.tuple #[.string x, .string y]) ∧ Ext w w' := by
  by_cases h : ∃ n, tagAt b n
  · obtain ⟨n, hn⟩ := h
    refine ⟨_, _, ?_, fun w => csplit_yes b n w hs hn⟩
    apply ByteArray.ext
    apply Array.toList_inj.1
    rw [app_list, ext_list, ext_list]
    have hsz := hn.1
    have e : b.data.toList.length = b.size := rfl
    rw [List.drop_zero, Nat.sub_zero, List.take_of_length_le (l := b.data.toList.drop n) (by rw [List.length_drop, e]; omega)]
    exact List.take_append_drop n _
  · refine ⟨b, ⟨#[]⟩, ?_, fun w => csplit_no b w hs (fun n hn => h ⟨n, hn⟩)⟩
    apply ByteArray.ext
    apply Array.toList_inj.1
    rw [app_list]
    exact List.append_nil _
theorem split_print (T : TailZ) (hg : GoodT T) (b : ByteArray) (hs : b.size ≤ 1000) (w : World) : Calls Try.prog 21 #[.string (b ++ printZ T)] w fun e w' => e = .returned (.tuple #[.string b, .string (printZ T)]) ∧ Ext w w' := by
  have h := csplit_yes (b ++ printZ T) b.size w (by rw [ByteArray.size_append, print_size T hg]; omega) (tag_print T hg b)
  have e1 : (b ++ printZ T).extract 0 b.size = b := by
    apply ByteArray.ext
    apply Array.toList_inj.1
    rw [ext_list, app_list, List.drop_zero, Nat.sub_zero]
    exact List.take_left
  have e2 : (b ++ printZ T).extract b.size (b ++ printZ T).size = printZ T := by
    apply ByteArray.ext
    apply Array.toList_inj.1
    rw [ext_list, app_list, ByteArray.size_append, Nat.add_sub_cancel_left]
    have : b.size = b.data.toList.length := rfl
    rw [this, List.drop_left]
    exact List.take_of_length_le (Nat.le_refl _)
  rwa [e1, e2] at h
set_option maxRecDepth 100000 in
theorem walk_long (b : ByteArray) (T : TailZ) (W : World) (h : 1000 < b.size) : Calls Try.prog 8 #[.string b, .agg (tailA T)] W fun e w' => e = .returned (.bool true) ∧ Ext W w' := by
  have HA := Lib.hid (fun w => awake12 w)
  have h1 : (1000 : Int) < b.size := by omega
  have HX0 := Lib.hid ((Ext.refl W).alloc (.cells (tailA T) 31))
  unfold tailA at HX0 ⊢
  clear h
  go_enter Try.func8, Try.ntmps8
  go_wp2_with (go_at_call 17; refine (HA.out _).mono ?_; rintro e w1 ⟨rfl, hb1⟩)
  go_ret
  exact ⟨rfl, HX0.out.trans hb1⟩
set_option maxRecDepth 100000 in
set_option maxHeartbeats 8000000 in
theorem walk_main (b : ByteArray) (T : TailZ) (hb : ByT T) (W : World) (h : b.size ≤ 1000) : Calls Try.prog 8 #[.string b, .agg (tailA T)] W fun e w' => e = .returned (.bool true) ∧ Ext W w' := by
  have HA := Lib.hid (fun w => awake12 w)
  have h1 : ¬ (1000 : Int) < b.size := by omega
  have HX0 := Lib.hid ((Ext.refl W).alloc (.cells (tailA T) 31))
  have HTA := Lib.hid (heap_alloc_new W (.cells (tailA T) 31))
  obtain ⟨x, y, hxy, hS⟩ := parts b (by omega)
  have HS := Lib.hid hS
  have hxs : x.size + y.size = b.size := by rw [← hxy]; simp
  have hx1 : x.size ≤ 1000 := by omega
  have hy1 : y.size ≤ 1000 := by omega
  have hbs : b.size ≤ 1000 := h
  have K1 := Lib.hid trivial
  clear hS hxs
  by_cases hg : GoodT T
  · have HP := Lib.hid (fun w => cprint_ok T w hb hg)
    have HS2 := Lib.hid (fun w => split_print T hg b h w)
    have HPa : Hid (∀ w, Calls Try.prog 18 #[.string (printZ T)] w fun e w' => e = .returned (.tuple #[.agg (tailA T), .bool true]) ∧ Ext w w') := fun w => by
      have := cparse_yes (printZ T) w (tag_print0 T hg)
      rwa [parse_print T hg hb.1 hb.2.1 hb.2.2.1 hb.2.2.2] at this
    have HBad := Lib.hid (fun w => fault_ok w)
    have hs128 := print_size T hg
    generalize printZ T = P at HP HS2 HPa hs128
    have hPs : P.size ≤ 128 := by omega
    unfold tailA at HX0 HTA HP HPa ⊢
    clear hg hb h hs128
    go_enter Try.func8, Try.ntmps8
    go_wp2_with (first
      | (go_at_call 21; clear K1; refine (HS.out _).mono ?_; rintro e w1 ⟨rfl, hb1⟩; obtain ⟨k0, k1, k2, k3, k4, k5, k6⟩ := facts7 ((hb1.block W.heap.size (by simp)).trans HTA.out))
      | (go_at_call 22; refine (HP.out _).mono ?_; rintro e w2 ⟨rfl, hb2⟩; clear k0 k1 k2 k3 k4 k5 k6; have hx2 := (hb1.trans hb2).alloc (.cells #[.int .i64 0, .int .i64 0] 43); obtain ⟨⟨f0, f1⟩, _⟩ := facts2 (heap_alloc_new w2 (.cells #[.int .i64 0, .int .i64 0] 43)))
      | (go_at_call 26; refine (HBad.out _).mono ?_; rintro e w3 ⟨rfl, hb3⟩; clear f0 f1)
      | (go_at_call 21; refine (HS2.out _).mono ?_; rintro e w4 ⟨rfl, hb4⟩)
      | (go_at_call 18; refine (HPa.out _).mono ?_; rintro e w5 ⟨rfl, hb5⟩; have HGk := Lib.hid (heap_alloc_new w5 (.cells #[.string T.t0, .string T.t1, .string T.t2, .string T.t3, .string T.t4, .int .u8 T.track, .int .u8 T.genre] 31)); have hx5 := (((hx2.trans hb3).trans hb4).trans hb5).alloc (.cells #[.string T.t0, .string T.t1, .string T.t2, .string T.t3, .string T.t4, .int .u8 T.track, .int .u8 T.genre] 31))
      | (go_at_call 17; refine (HA.out _).mono ?_; rintro e w6 ⟨rfl, hb6⟩; obtain ⟨n0, n1, n2, n3, n4, n5, n6⟩ := facts7 ((hb6.block w5.heap.size (by simp)).trans HGk.out); obtain ⟨k0, k1, k2, k3, k4, k5, k6⟩ := facts7 (((hx5.trans hb6).block W.heap.size (by simp)).trans HTA.out)))
    go_ret
    exact ⟨by first | (simp; done) | rfl, HX0.out.trans (hx5.trans hb6)⟩
  · have hne : (checkZ T).1 ≠ 0 := fun e => hg ((check_good T).1 e)
    have HP := Lib.hid (fun w => cprint_bad T w hb hg)
    generalize (checkZ T).1 = er at HP hne
    generalize (checkZ T).2 = pl at HP
    have HBad := Lib.hid (fun w => fault_bad er pl w (by rw [bne, beq_false_of_ne hne]; rfl))
    unfold tailA at HX0 HTA HP ⊢
    clear hg hb h hne
    go_enter Try.func8, Try.ntmps8
    go_wp2_with (first
      | (go_at_call 21; refine (HS.out _).mono ?_; rintro e w1 ⟨rfl, hb1⟩; obtain ⟨k0, k1, k2, k3, k4, k5, k6⟩ := facts7 ((hb1.block W.heap.size (by simp)).trans HTA.out))
      | (go_at_call 22; refine (HP.out _).mono ?_; rintro e w2 ⟨rfl, hb2⟩; clear k0 k1 k2 k3 k4 k5 k6; have hx2 := (hb1.trans hb2).alloc (.cells #[.int .i64 er, .int .i64 pl] 43); obtain ⟨⟨f0, f1⟩, _⟩ := facts2 (heap_alloc_new w2 (.cells #[.int .i64 er, .int .i64 pl] 43)))
      | (go_at_call 26; refine (HBad.out _).mono ?_; rintro e w3 ⟨rfl, hb3⟩; clear f0 f1)
      | (go_at_call 17; refine (HA.out _).mono ?_; rintro e w6 ⟨rfl, hb6⟩))
    go_ret
    exact ⟨by first | (simp; done) | rfl, HX0.out.trans ((hx2.trans hb3).trans hb6)⟩
theorem walk (b : ByteArray) (T : TailZ) (hb : 0 ≤ T.track ∧ T.track < 256 ∧ 0 ≤ T.genre ∧ T.genre < 256) (W : World) : Calls Try.prog 8 #[.string b, .agg (tailA T)] W fun e w' => e = .returned (.bool true) ∧ Ext W w' := by
  by_cases h : b.size ≤ 1000
  · exact walk_main b T hb W h
  · exact walk_long b T W (by omega)
set_option maxRecDepth 100000 in
theorem lifted (os : Os) (started : os.Started) (H : Type) (enc : TypeId × Value → H) :
    ReturnsInHanded {} Try.checked os 8 .any (Rows.tailSplitsSpec.pre6 enc Try.prog Try.f8 Rows.tailSplitsRow.domain false) (Rows.tailSplitsSpec.post enc Try.prog Try.f8 false true false false) := by
  refine returnsInHanded_of_change (C := Try.checked) own started (by kernel_rfl) Try.func8
    (ChangeSpec.witness6 (enc := enc) (C := Try.checked) false ⟨#[], #[.string ByteArray.empty, .agg #[.string ByteArray.empty, .string ByteArray.empty, .string ByteArray.empty, .string ByteArray.empty, .string ByteArray.empty, .int .u8 0, .int .u8 0]], []⟩ 8 (by kernel_rfl) (by kernel_rfl) (by kernel_rfl) (by kernel_rfl)) ?_
  intro W base args ds gs before hval0 hW hcnd _
  have hval : ∀ (j : Nat) t v, Try.f8.params[j]? = some t → args[j]? = some v → Value.okWide Try.prog W .any base t v := hval0
  have hW' := hW
  obtain ⟨p, q, hA0, hV, rfl, hfz, hnd⟩ := hW
  have hA : DataW.TrodAll enc Try.prog W 0 (fun _ => true) true Try.f8.params.toList args.toList ds p := hA0
  rw [Try.params8] at hA hval
  obtain ⟨v0, vs0, d0, ds0, p0, q0, hargs, rfl, rfl, h0, r0⟩ := trodAll_cons hA
  obtain ⟨v1, vs1, d1, ds1, p1, q1, rfl, rfl, rfl, h1, r1⟩ := trodAll_cons r0
  obtain ⟨rfl, rfl, rfl⟩ := trodAll_nil r1
  obtain rfl : args = #[v0, v1] := by cases args; simp_all
  obtain ⟨rfl, rfl⟩ := trodVars_none hV
  obtain ⟨a0, rfl, rfl, rfl, w0⟩ := open_string Try.underlying9 (hval 0 9 v0 rfl rfl) h0
  have k1 := h1
  have lt1 : ∀ x ∈ p1, x.block < W.heap.size := by obtain ⟨m, hm⟩ := k1; exact DataW.trod_lt m _ _ _ hm
  obtain ⟨a1, rfl, w1⟩ := open_tail (hval 1 31 v1 rfl rfl) h1
  clear hA0 hval0
  refine (walk a0 a1 w1 W).mono fun e W' ⟨he, bel⟩ => ?_
  subst he
  exact ⟨_, rfl, _, _, _, [], _, [], hW', trodAll_mk1 (shut_bool Try.underlying4 _), (trodAll_cons_mk (shut_string Try.underlying9 w0) (trodAll_cons_mk (Below.trod laidOut (by kernel_rfl) (of_decide_eq_true (by kernel_rfl)) k1 bel lt1) trodAll_mk0)), rfl, bel.frame _, fun h => by cases h⟩

theorem and2 {a b : Bool} (ha : a = true) (hb : b = true) : (a && b) = true := by rw [ha, hb]; rfl
set_option maxHeartbeats 40000000 in
theorem closed : joinedFacts Try.pinned.checked.prog 8 Try.f8 Rows.tailSplitsSpec Rows.tailSplitsRow = true := by
  unfold joinedFacts
  repeat' with_reducible refine and2 ?_ ?_
  all_goals as_aux_lemma => kernel_rfl
theorem over : Rows.tailSplitsRow.holds Try.pinned (OpenSpec.ofChange Rows.tailSplitsSpec) :=
  OpenClaim.holds_of_wide 8 Try.f8 rfl rfl rfl rfl rfl rfl rfl ⟨rfl, rfl, rfl, rfl, rfl⟩ rfl rfl rfl rfl rfl (by kernel_rfl) Try.func8 closed
    (of_decide_eq_true (by kernel_rfl)) (by unfold Func.isWrapper; first | (rw [if_pos (by decide +kernel)]; kernel_rfl) | (rw [if_neg (by decide +kernel)]; exact ⟨rfl, rfl⟩))
    (fun os started H enc _ => lifted os started H enc)

/-- THE STATEMENT. -/
theorem proved : Rows.TailSplitsSaid := over
#print axioms proved

end Go.Proofs.Ytbdjncnofpbkkaa.tailSplits
