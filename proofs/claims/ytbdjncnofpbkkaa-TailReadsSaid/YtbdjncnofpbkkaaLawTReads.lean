/-
  The law TailReads holds at every text: the tail of any bytes, or that there is none, and what a file has ahead of it, are the document's.
  Conditions: none beyond the row's own.
-/
import Derived.Test.YtbdjncnofpbkkaaTa9
import Derived.ChangeMaps
namespace Go.Proofs.Ytbdjncnofpbkkaa.tailReads
open Go Go.Proofs.Ytbdjncnofpbkkaa Go.ChangeShapes Go.WideShapes Go.ChangeAt Go.RowKit
open Go.ChangeMaps (open_string shut_string)
set_option linter.unusedSimpArgs false
set_option linter.unusedVariables false

theorem own : ownKnob Try.prog.godebug = none := by kernel_rfl
def tagT : ByteArray := ⟨#[84, 65, 71]⟩
theorem tag_ext (b : ByteArray) (n : Nat) : (b.extract n (n + 3)).data.toList = (b.data.toList.drop n).take 3 := by
  rw [ext_list, Nat.add_sub_cancel_left]
theorem tag_yes {b : ByteArray} {n : Nat} (h : tagAt b n) : b.extract n (n + 3) = ⟨#[84, 65, 71]⟩ := by
  apply ByteArray.ext
  apply Array.toList_inj.1
  rw [tag_ext, h.2]
theorem tag_no {b : ByteArray} {n : Nat} (hs : b.size = n + 128) (h : ¬ tagAt b n) : b.extract n (n + 3) ≠ ⟨#[84, 65, 71]⟩ := fun e => h ⟨hs, by rw [← tag_ext, e]⟩
set_option maxRecDepth 100000 in
theorem walk_long (b : ByteArray) (W : World) (h : 3000 < b.size) : Calls Try.prog 6 #[.string b] W fun e w' => e = .returned (.bool true) ∧ Ext W w' := by
  have HA := Lib.hid (fun w => awake12 w)
  have h1 : (3000 : Int) < b.size := by omega
  clear h
  go_enter Try.func6, Try.ntmps6
  go_wp2_with (go_at_call 17; refine (HA.out _).mono ?_; rintro e w1 ⟨rfl, hb1⟩)
  go_ret
  exact ⟨rfl, hb1⟩
set_option maxRecDepth 100000 in
set_option maxHeartbeats 4000000 in
/-- 128 bytes that are a tail. -/
theorem walk_tail (b : ByteArray) (W : World) (h : tagAt b 0) : Calls Try.prog 6 #[.string b] W fun e w' => e = .returned (.bool true) ∧ Ext W w' := by
  have HA := Lib.hid (fun w => awake12 w)
  have hsz : b.size = 128 := h.1
  have HPa := Lib.hid (fun w => cparse_yes b w h)
  have hby := parse_by b
  have HO := Lib.hid (fun w => rof (parseZ b) w hby.1 hby.2.1 hby.2.2.1 hby.2.2.2)
  have HR := Lib.hid (fun w => rparse b w hsz)
  have HS := Lib.hid (fun w => csplit_yes b 0 w (by omega) h)
  have hm := tag_yes h
  rw [Nat.zero_add] at hm
  have hsi : (b.size : Int) = 128 := by omega
  have h3 : (3 : Int) ≤ b.size := by omega
  unfold tailA at HPa HO
  unfold refA at HO HR
  generalize parseZ b = T at HPa HO HR
  have heq := fun w => eq_texts T.t0 T.t1 T.t2 T.t3 T.t4 w
  clear hby h
  go_enter Try.func6, Try.ntmps6
  go_wp2_with (first
    | (go_at_call 18; refine (HPa.out _).mono ?_; rintro e w1 ⟨rfl, hb1⟩; obtain ⟨k0, k1, k2, k3, k4, k5, k6⟩ := facts7 (heap_alloc_new w1 (.cells #[.string T.t0, .string T.t1, .string T.t2, .string T.t3, .string T.t4, .int .u8 T.track, .int .u8 T.genre] 31)); have hx1 := hb1.alloc (.cells #[.string T.t0, .string T.t1, .string T.t2, .string T.t3, .string T.t4, .int .u8 T.track, .int .u8 T.genre] 31))
    | (go_at_call 19; refine (HO.out _).mono ?_; rintro e w2 ⟨rfl, hb2⟩)
    | (go_at_call 20; refine (HR.out _).mono ?_; rintro e w3 ⟨rfl, hb3⟩)
    | (go_at_call 21; refine (HS.out _).mono ?_; rintro e w4 ⟨rfl, hb4⟩)
    | (go_at_call 17; refine (HA.out _).mono ?_; rintro e w5 ⟨rfl, hb5⟩))
  go_ret
  exact ⟨by first | (simp; done) | rfl, (((hx1.trans hb2).trans hb3).trans hb4).trans hb5⟩
theorem not_tag {b : ByteArray} {n m : Nat} (h : b.extract n m ≠ ⟨#[84, 65, 71]⟩) : ((b.extract n m).toList == [84, 65, 71]) = false ∧ ¬ (b.extract n m).toList = [84, 65, 71] := by
  have e : ¬ (b.extract n m).toList = [84, 65, 71] := fun e => h (by
    rw [ByteArray.toList_eq] at e
    apply ByteArray.ext
    exact Array.toList_inj.1 e)
  exact ⟨beq_false_of_ne e, e⟩
set_option maxRecDepth 100000 in
set_option maxHeartbeats 4000000 in
/-- A tail behind something else. -/
theorem walk_behind (b : ByteArray) (n : Nat) (W : World) (hb : b.size ≤ 3000) (h : tagAt b n) (h1 : 1 ≤ n) : Calls Try.prog 6 #[.string b] W fun e w' => e = .returned (.bool true) ∧ Ext W w' := by
  have HA := Lib.hid (fun w => awake12 w)
  have hsz : b.size = n + 128 := h.1
  have hno : ¬ tagAt b 0 := fun k => by have := k.1; omega
  have HPa := Lib.hid (fun w => cparse_no b w (by omega) hno)
  have HS := Lib.hid (fun w => csplit_yes b n w (by omega) h)
  have hm := tag_yes h
  have b3 : ¬ (3000 : Int) < b.size := by omega
  have g0 : ((b.size : Int) == 128) = false := beq_false_of_ne (by omega)
  have hn : (b.size : Int) - 128 = (n : Int) := by omega
  have hn3 : (n : Int) ≤ 3000 := by omega
  have hw1 : IntKind.i64.wrap ((b.size : Int) - 128) = (n : Int) := by rw [hn]; exact IntWalk.i64_in _ (by omega)
  have hw3 : IntKind.i64.wrap ((n : Int) + 3) = (n : Int) + 3 := IntWalk.i64_in _ (by omega)
  have ht3 : ((n : Int) + 3).toNat = n + 3 := by omega
  have hl3 : (n : Int) + 3 ≤ b.size := by omega
  have hl0 : (n : Int) ≤ b.size := by omega
  have h00 : (n : Int) ≤ n + 3 := by omega
  unfold tailA noT at HPa
  simp only at HPa
  clear hno h hsz hn h1
  go_enter Try.func6, Try.ntmps6
  go_wp2_with (first
    | (go_at_call 18; refine (HPa.out _).mono ?_; rintro e w1 ⟨rfl, hb1⟩; obtain ⟨k0, k1, k2, k3, k4, k5, k6⟩ := facts7 (heap_alloc_new w1 (.cells #[.string ⟨#[]⟩, .string ⟨#[]⟩, .string ⟨#[]⟩, .string ⟨#[]⟩, .string ⟨#[]⟩, .int .u8 0, .int .u8 0] 31)); have hx1 := hb1.alloc (.cells #[.string ⟨#[]⟩, .string ⟨#[]⟩, .string ⟨#[]⟩, .string ⟨#[]⟩, .string ⟨#[]⟩, .int .u8 0, .int .u8 0] 31))
    | (go_at_call 21; refine (HS.out _).mono ?_; rintro e w4 ⟨rfl, hb4⟩)
    | (go_at_call 17; refine (HA.out _).mono ?_; rintro e w5 ⟨rfl, hb5⟩))
  go_ret
  exact ⟨by first | (simp; done) | rfl, (hx1.trans hb4).trans hb5⟩
set_option maxRecDepth 100000 in
set_option maxHeartbeats 4000000 in
/-- Fewer bytes than a tail has. -/
theorem walk_short (b : ByteArray) (W : World) (h : b.size < 128) : Calls Try.prog 6 #[.string b] W fun e w' => e = .returned (.bool true) ∧ Ext W w' := by
  have HA := Lib.hid (fun w => awake12 w)
  have hno : ∀ n, ¬ tagAt b n := fun n k => by have := k.1; omega
  have HPa := Lib.hid (fun w => cparse_no b w (by omega) (hno 0))
  have HS := Lib.hid (fun w => csplit_no b w (by omega) hno)
  have b3 : ¬ (3000 : Int) < b.size := by omega
  have g0 : ((b.size : Int) == 128) = false := beq_false_of_ne (by omega)
  have hw1 : IntKind.i64.wrap ((b.size : Int) - 128) = (b.size : Int) - 128 := IntWalk.i64_in _ (by omega)
  have hn : ¬ (0 : Int) ≤ (b.size : Int) - 128 := by omega
  unfold tailA noT at HPa
  simp only at HPa
  clear hno h
  go_enter Try.func6, Try.ntmps6
  go_wp2_with (first
    | (go_at_call 18; refine (HPa.out _).mono ?_; rintro e w1 ⟨rfl, hb1⟩; obtain ⟨k0, k1, k2, k3, k4, k5, k6⟩ := facts7 (heap_alloc_new w1 (.cells #[.string ⟨#[]⟩, .string ⟨#[]⟩, .string ⟨#[]⟩, .string ⟨#[]⟩, .string ⟨#[]⟩, .int .u8 0, .int .u8 0] 31)); have hx1 := hb1.alloc (.cells #[.string ⟨#[]⟩, .string ⟨#[]⟩, .string ⟨#[]⟩, .string ⟨#[]⟩, .string ⟨#[]⟩, .int .u8 0, .int .u8 0] 31))
    | (go_at_call 21; refine (HS.out _).mono ?_; rintro e w4 ⟨rfl, hb4⟩)
    | (go_at_call 17; refine (HA.out _).mono ?_; rintro e w5 ⟨rfl, hb5⟩))
  go_ret
  exact ⟨by first | (simp; done) | rfl, (hx1.trans hb4).trans hb5⟩
set_option maxRecDepth 100000 in
set_option maxHeartbeats 4000000 in
/-- 128 bytes that are no tail. -/
theorem walk_none (b : ByteArray) (W : World) (hb : b.size = 128) (h : ¬ tagAt b 0) : Calls Try.prog 6 #[.string b] W fun e w' => e = .returned (.bool true) ∧ Ext W w' := by
  have HA := Lib.hid (fun w => awake12 w)
  have hno : ∀ n, ¬ tagAt b n := fun n k => by
    have e : n = 0 := by have := k.1; omega
    subst e
    exact h k
  have HPa := Lib.hid (fun w => cparse_no b w (by omega) h)
  have HS := Lib.hid (fun w => csplit_no b w (by omega) hno)
  have hm := not_tag (tag_no (n := 0) (by omega) h)
  rw [Nat.zero_add] at hm
  obtain ⟨hm1, hm2⟩ := hm
  have hsi : (b.size : Int) = 128 := by omega
  unfold tailA noT at HPa
  simp only at HPa
  clear hno h hb
  go_enter Try.func6, Try.ntmps6
  go_wp2_with (first
    | (go_at_call 18; refine (HPa.out _).mono ?_; rintro e w1 ⟨rfl, hb1⟩; obtain ⟨k0, k1, k2, k3, k4, k5, k6⟩ := facts7 (heap_alloc_new w1 (.cells #[.string ⟨#[]⟩, .string ⟨#[]⟩, .string ⟨#[]⟩, .string ⟨#[]⟩, .string ⟨#[]⟩, .int .u8 0, .int .u8 0] 31)); have hx1 := hb1.alloc (.cells #[.string ⟨#[]⟩, .string ⟨#[]⟩, .string ⟨#[]⟩, .string ⟨#[]⟩, .string ⟨#[]⟩, .int .u8 0, .int .u8 0] 31))
    | (go_at_call 21; refine (HS.out _).mono ?_; rintro e w4 ⟨rfl, hb4⟩)
    | (go_at_call 17; refine (HA.out _).mono ?_; rintro e w5 ⟨rfl, hb5⟩))
  go_ret
  exact ⟨by first | (simp; done) | rfl, (hx1.trans hb4).trans hb5⟩
set_option maxRecDepth 100000 in
set_option maxHeartbeats 4000000 in
/-- More bytes, but no tail behind. -/
theorem walk_more (b : ByteArray) (n : Nat) (W : World) (hb : b.size ≤ 3000) (hsz : b.size = n + 128) (h1 : 1 ≤ n) (h : ¬ tagAt b n) : Calls Try.prog 6 #[.string b] W fun e w' => e = .returned (.bool true) ∧ Ext W w' := by
  have HA := Lib.hid (fun w => awake12 w)
  have hno : ∀ n, ¬ tagAt b n := fun m k => by
    have e : m = n := by have := k.1; omega
    subst e
    exact h k
  have HPa := Lib.hid (fun w => cparse_no b w (by omega) (hno 0))
  have HS := Lib.hid (fun w => csplit_no b w (by omega) hno)
  obtain ⟨hm1, hm2⟩ := not_tag (tag_no hsz h)
  have b3 : ¬ (3000 : Int) < b.size := by omega
  have g0 : ((b.size : Int) == 128) = false := beq_false_of_ne (by omega)
  have hn : (b.size : Int) - 128 = (n : Int) := by omega
  have hn3 : (n : Int) ≤ 3000 := by omega
  have hw1 : IntKind.i64.wrap ((b.size : Int) - 128) = (n : Int) := by rw [hn]; exact IntWalk.i64_in _ (by omega)
  have hw3 : IntKind.i64.wrap ((n : Int) + 3) = (n : Int) + 3 := IntWalk.i64_in _ (by omega)
  have ht3 : ((n : Int) + 3).toNat = n + 3 := by omega
  have hl3 : (n : Int) + 3 ≤ b.size := by omega
  have h00 : (n : Int) ≤ n + 3 := by omega
  unfold tailA noT at HPa
  simp only at HPa
  clear hno h hsz hn h1
  go_enter Try.func6, Try.ntmps6
  go_wp2_with (first
    | (go_at_call 18; refine (HPa.out _).mono ?_; rintro e w1 ⟨rfl, hb1⟩; obtain ⟨k0, k1, k2, k3, k4, k5, k6⟩ := facts7 (heap_alloc_new w1 (.cells #[.string ⟨#[]⟩, .string ⟨#[]⟩, .string ⟨#[]⟩, .string ⟨#[]⟩, .string ⟨#[]⟩, .int .u8 0, .int .u8 0] 31)); have hx1 := hb1.alloc (.cells #[.string ⟨#[]⟩, .string ⟨#[]⟩, .string ⟨#[]⟩, .string ⟨#[]⟩, .string ⟨#[]⟩, .int .u8 0, .int .u8 0] 31))
    | (go_at_call 21; refine (HS.out _).mono ?_; rintro e w4 ⟨rfl, hb4⟩)
    | (go_at_call 17; refine (HA.out _).mono ?_; rintro e w5 ⟨rfl, hb5⟩))
  go_ret
  exact ⟨by first | (simp; done) | rfl, (hx1.trans hb4).trans hb5⟩
theorem walk (b : ByteArray) (W : World) : Calls Try.prog 6 #[.string b] W fun e w' => e = .returned (.bool true) ∧ Ext W w' := by
  by_cases h0 : 3000 < b.size
  · exact walk_long b W h0
  by_cases h1 : b.size < 128
  · exact walk_short b W h1
  obtain ⟨n, hn⟩ : ∃ n, b.size = n + 128 := ⟨b.size - 128, by omega⟩
  by_cases hz : n = 0
  · subst hz
    by_cases h : tagAt b 0
    · exact walk_tail b W h
    · exact walk_none b W (by omega) h
  · by_cases h : tagAt b n
    · exact walk_behind b n W (by omega) h (by omega)
    · exact walk_more b n W (by omega) hn (by omega) h
set_option maxRecDepth 100000 in
theorem lifted (os : Os) (started : os.Started) (H : Type) (enc : TypeId × Value → H) :
    ReturnsInHanded {} Try.checked os 6 .any (Rows.tailReadsSpec.pre6 enc Try.prog Try.f6 Rows.tailReadsRow.domain false) (Rows.tailReadsSpec.post enc Try.prog Try.f6 false true false false) := by
  refine returnsInHanded_of_change (C := Try.checked) own started (by kernel_rfl) Try.func6
    (ChangeSpec.witness6 (enc := enc) (C := Try.checked) false ⟨#[], #[.string ByteArray.empty], []⟩ 8 (by kernel_rfl) (by kernel_rfl) (by kernel_rfl) (by kernel_rfl)) ?_
  intro W base args ds gs before hval0 hW hcnd _
  have hval : ∀ (j : Nat) t v, Try.f6.params[j]? = some t → args[j]? = some v → Value.okWide Try.prog W .any base t v := hval0
  have hW' := hW
  obtain ⟨p, q, hA0, hV, rfl, hfz, hnd⟩ := hW
  have hA : DataW.TrodAll enc Try.prog W 0 (fun _ => true) true Try.f6.params.toList args.toList ds p := hA0
  rw [Try.params6] at hA hval
  obtain ⟨v0, vs0, d0, ds0, p0, q0, hargs, rfl, rfl, h0, r0⟩ := trodAll_cons hA
  obtain ⟨rfl, rfl, rfl⟩ := trodAll_nil r0
  obtain rfl : args = #[v0] := by cases args; simp_all
  obtain ⟨rfl, rfl⟩ := trodVars_none hV
  obtain ⟨a0, rfl, rfl, rfl, w0⟩ := open_string Try.underlying9 (hval 0 9 v0 rfl rfl) h0
  clear hA0 hval0
  try simp only [List.append_nil] at hW'
  refine (walk a0 W).mono fun e W' ⟨he, bel⟩ => ?_
  subst he
  exact ⟨_, rfl, _, _, _, [], [], [], hW', trodAll_mk1 (shut_bool Try.underlying4 _), (trodAll_cons_mk (shut_string Try.underlying9 w0) trodAll_mk0), rfl, bel.frame _, fun h => by cases h⟩

theorem and2 {a b : Bool} (ha : a = true) (hb : b = true) : (a && b) = true := by rw [ha, hb]; rfl
set_option maxHeartbeats 40000000 in
theorem closed : joinedFacts Try.pinned.checked.prog 6 Try.f6 Rows.tailReadsSpec Rows.tailReadsRow = true := by
  unfold joinedFacts
  repeat' with_reducible refine and2 ?_ ?_
  all_goals as_aux_lemma => kernel_rfl
theorem over : Rows.tailReadsRow.holds Try.pinned (OpenSpec.ofChange Rows.tailReadsSpec) :=
  OpenClaim.holds_of_wide 6 Try.f6 rfl rfl rfl rfl rfl rfl rfl ⟨rfl, rfl, rfl, rfl, rfl⟩ rfl rfl rfl rfl rfl (by kernel_rfl) Try.func6 closed
    (of_decide_eq_true (by kernel_rfl)) (by unfold Func.isWrapper; first | (rw [if_pos (by decide +kernel)]; kernel_rfl) | (rw [if_neg (by decide +kernel)]; exact ⟨rfl, rfl⟩))
    (fun os started H enc _ => lifted os started H enc)

/-- THE STATEMENT. -/
theorem proved : Rows.TailReadsSaid := over
#print axioms proved

end Go.Proofs.Ytbdjncnofpbkkaa.tailReads
