/-
  The law SyncParts holds at every two texts: where the first doesn't end in FF, what is put into both is put into each; likewise what is dropped.
  Conditions: none beyond the row's own.
-/
import Derived.Test.YtbdjncnofpbkkaaUn3
import Derived.ChangeMaps
namespace Go.Proofs.Ytbdjncnofpbkkaa.syncParts
open Go Go.Proofs.Ytbdjncnofpbkkaa Go.ChangeShapes Go.WideShapes Go.ChangeAt Go.RowKit
open Go.ChangeMaps (open_string shut_string)
set_option linter.unusedSimpArgs false
set_option linter.unusedVariables false

theorem own : ownKnob Try.prog.godebug = none := by kernel_rfl
/-- Does a text end in FF? -/
def endsFF (a : ByteArray) : Prop := ∃ h : 0 < a.size, (a[a.size - 1]'(by omega)).toNat = 255
set_option maxRecDepth 100000 in
theorem walk_long (a b : ByteArray) (W : World) (h : 500 < a.size ∨ (a.size ≤ 500 ∧ 500 < b.size)) : Calls Try.prog 5 #[.string a, .string b] W fun e w' => e = .returned (.bool true) ∧ Ext W w' := by
  have HA := Lib.hid (fun w => awake11 w)
  have h1 : (500 : Int) < a.size ∨ (¬ (500 : Int) < a.size ∧ (500 : Int) < b.size) := by omega
  clear h
  rcases h1 with h1 | ⟨h1, h2⟩
  all_goals
    go_enter Try.func5, Try.ntmps5
    go_wp2_with (go_at_call 9; refine (HA.out _).mono ?_; rintro e w1 ⟨rfl, hb1⟩)
    go_ret
    exact ⟨rfl, hb1⟩
set_option maxRecDepth 100000 in
theorem walk_ff (a b : ByteArray) (W : World) (ha : a.size ≤ 500) (hb : b.size ≤ 500) (h0 : 0 < a.size) (hx : (a[a.size - 1]'(by omega)).toNat = 255) : Calls Try.prog 5 #[.string a, .string b] W fun e w' => e = .returned (.bool true) ∧ Ext W w' := by
  have HA := Lib.hid (fun w => awake11 w)
  have h1 : ¬ (500 : Int) < a.size := by omega
  have h2 : ¬ (500 : Int) < b.size := by omega
  have h3 : (0 : Int) < a.size := by omega
  have hw : IntKind.i64.wrap ((a.size : Int) - 1) = (a.size : Int) - 1 := IntWalk.i64_in _ (by omega)
  have hw1 : ((a.size : Int) - 1).toNat = a.size - 1 := by omega
  have hw2 : ¬ (a.size : Int) - 1 < 0 := by omega
  have hw3 : (a.size : Int) - 1 < a.size := by omega
  have hw4 : a.size - 1 < a.size := by omega
  have g0 : (((a[a.size - 1]'hw4).toNat : Int) == 255) = true := by rw [hx]; rfl
  clear hx ha hb
  go_enter Try.func5, Try.ntmps5
  go_wp2_with (go_at_call 9; refine (HA.out _).mono ?_; rintro e w1 ⟨rfl, hb1⟩)
  go_ret
  exact ⟨rfl, hb1⟩
theorem last_at (a : ByteArray) (y : UInt8) (h : a.data.toList.getLast? = some y) : ∃ h0 : 0 < a.size, a[a.size - 1]'(by omega) = y := by
  have hl : 0 < a.data.toList.length := by
    cases e : a.data.toList with
    | nil => rw [e] at h; cases h
    | cons x r => simp
  have h0 : 0 < a.size := hl
  refine ⟨h0, ?_⟩
  rw [List.getLast?_eq_getElem?] at h
  have hh : a.size - 1 < a.size := by omega
  have e := ul_at a (a.size - 1) hh
  have e2 : (a.data.toList.drop (a.size - 1))[0]? = some (a[a.size - 1]'hh) := by rw [e]; rfl
  rw [List.getElem?_drop] at e2
  have e3 : a.data.toList.length - 1 = a.size - 1 + 0 := rfl
  rw [e3, e2] at h
  exact Option.some.inj h
set_option maxRecDepth 100000 in
set_option maxHeartbeats 4000000 in
theorem walk_main (a b : ByteArray) (W : World) (ha : a.size ≤ 500) (hb : b.size ≤ 500) (hn : a.size = 0 ∨ ∃ h0 : 0 < a.size, (a[a.size - 1]'(by omega)).toNat ≠ 255) : Calls Try.prog 5 #[.string a, .string b] W fun e w' => e = .returned (.bool true) ∧ Ext W w' := by
  have HA := Lib.hid (fun w => awake11 w)
  have h1 : ¬ (500 : Int) < a.size := by omega
  have h2 : ¬ (500 : Int) < b.size := by omega
  have hlast : ∀ y, a.data.toList.getLast? = some y → y.toNat ≠ 255 := fun y hy => by
    obtain ⟨h0, e⟩ := last_at a y hy
    rcases hn with hn | ⟨_, hn⟩
    · omega
    · rw [← e]; exact hn
  have hab : (a ++ b).size = a.size + b.size := by simp
  have hl : (a ++ b).data.toList = a.data.toList ++ b.data.toList := app_list a b
  obtain ⟨e1, e2⟩ := put_app a.data.toList b.data.toList hlast
  have e3 := drop_app _ a.data.toList b.data.toList (Nat.le_refl _) hlast
  have join : ∀ x y : List UInt8, bsU (x ++ y) = bsU x ++ bsU y := fun x y => by
    symm
    apply list_bs
    rw [app_list]
    rfl
  have HPa := Lib.hid (fun w => cput a w (by omega))
  have HPb := Lib.hid (fun w => cput b w (by omega))
  have HPc := Lib.hid (fun w => cput (a ++ b) w (by omega))
  have HDa := Lib.hid (fun w => cdrop a w (by omega))
  have HDb := Lib.hid (fun w => cdrop b w (by omega))
  have HDc := Lib.hid (fun w => cdrop (a ++ b) w (by omega))
  have HEa := Lib.hid (fun w => cextra a w (by omega))
  have HEb := Lib.hid (fun w => cextra b w (by omega))
  have HEc := Lib.hid (fun w => cextra (a ++ b) w (by omega))
  rw [hl, e1, join] at HPc
  rw [hl, e3, join] at HDc
  rw [hl, e2] at HEc
  have sa : (bsU (putU a.data.toList)).size ≤ 1000 := by
    show (putU a.data.toList).length ≤ 1000
    rw [put_len]
    have := extra_le11 a.data.toList
    have e : a.data.toList.length = a.size := rfl
    omega
  have sb : (bsU (putU b.data.toList)).size ≤ 1000 := by
    show (putU b.data.toList).length ≤ 1000
    rw [put_len]
    have := extra_le11 b.data.toList
    have e : b.data.toList.length = b.size := rfl
    omega
  have ta : (bsU (dropU a.data.toList)).size ≤ 500 := by
    have := drop_le11 a.data.toList
    have e : a.data.toList.length = a.size := rfl
    show (dropU a.data.toList).length ≤ 500
    omega
  have tb : (bsU (dropU b.data.toList)).size ≤ 500 := by
    have := drop_le11 b.data.toList
    have e : b.data.toList.length = b.size := rfl
    show (dropU b.data.toList).length ≤ 500
    omega
  have xa := extra_le11 a.data.toList
  have xb := extra_le11 b.data.toList
  have la : a.data.toList.length = a.size := rfl
  have lb : b.data.toList.length = b.size := rfl
  rw [la] at xa
  rw [lb] at xb
  clear hl e1 e2 e3 hlast join la lb
  generalize bsU (putU a.data.toList) = pa at HPa HPc sa
  generalize bsU (putU b.data.toList) = pb at HPb HPc sb
  generalize bsU (dropU a.data.toList) = da at HDa HDc ta
  generalize bsU (dropU b.data.toList) = db at HDb HDc tb
  generalize extraU a.data.toList = na at HEa HEc xa
  generalize extraU b.data.toList = nb at HEb HEc xb
  have K1 := Lib.hid trivial
  have K2 := Lib.hid trivial
  have K3 := Lib.hid trivial
  have K4 := Lib.hid trivial
  have K5 := Lib.hid trivial
  have K6 := Lib.hid trivial
  have hsum : IntKind.i64.wrap ((na : Int) + nb) = (na : Int) + nb := IntWalk.i64_in _ (by omega)
  have hcast : (((na + nb : Nat) : Int)) = (na : Int) + nb := by omega
  have hp1 : (pa ++ pb).size = pa.size + pb.size := by simp
  have hd1 : (da ++ db).size = da.size + db.size := by simp
  rw [hcast] at HEc
  have hcase : a.size = 0 ∨ ∃ h0 : 0 < a.size, (a[a.size - 1]'(by omega)).toNat ≠ 255 := hn
  clear hn
  rcases hcase with h0 | ⟨h0, hx⟩
  · have h3 : ¬ (0 : Int) < a.size := by omega
    clear h0
    go_enter Try.func5, Try.ntmps5
    go_wp2_with (first
      | (go_at_call 9; refine (HA.out _).mono ?_; rintro e w0 ⟨rfl, hx0⟩)
      | (go_at_call 12; clear K1; refine (HPc.out _).mono ?_; rintro e w1 ⟨rfl, hx1⟩)
      | (go_at_call 12; clear K2; refine (HPa.out _).mono ?_; rintro e w2 ⟨rfl, hx2⟩)
      | (go_at_call 12; refine (HPb.out _).mono ?_; rintro e w3 ⟨rfl, hx3⟩)
      | (go_at_call 14; clear K3; refine (HDc.out _).mono ?_; rintro e w4 ⟨rfl, hx4⟩)
      | (go_at_call 14; clear K4; refine (HDa.out _).mono ?_; rintro e w5 ⟨rfl, hx5⟩)
      | (go_at_call 14; refine (HDb.out _).mono ?_; rintro e w6 ⟨rfl, hx6⟩)
      | (go_at_call 16; clear K5; refine (HEc.out _).mono ?_; rintro e w7 ⟨rfl, hx7⟩)
      | (go_at_call 16; clear K6; refine (HEa.out _).mono ?_; rintro e w8 ⟨rfl, hx8⟩)
      | (go_at_call 16; refine (HEb.out _).mono ?_; rintro e w9 ⟨rfl, hx9⟩))
    go_ret
    exact ⟨by first | (simp; done) | rfl, ((((((((hx0.trans hx1).trans hx2).trans hx3).trans hx4).trans hx5).trans hx6).trans hx7).trans hx8).trans hx9⟩
  · have h3 : (0 : Int) < a.size := by omega
    have hw : IntKind.i64.wrap ((a.size : Int) - 1) = (a.size : Int) - 1 := IntWalk.i64_in _ (by omega)
    have hw1 : ((a.size : Int) - 1).toNat = a.size - 1 := by omega
    have hw2 : ¬ (a.size : Int) - 1 < 0 := by omega
    have hw3 : (a.size : Int) - 1 < a.size := by omega
    have hw4 : a.size - 1 < a.size := by omega
    have g0 : (((a[a.size - 1]'hw4).toNat : Int) == 255) = false := beq_false_of_ne (by omega)
    clear h0 hx
    go_enter Try.func5, Try.ntmps5
    go_wp2_with (first
      | (go_at_call 9; refine (HA.out _).mono ?_; rintro e w0 ⟨rfl, hx0⟩)
      | (go_at_call 12; clear K1; refine (HPc.out _).mono ?_; rintro e w1 ⟨rfl, hx1⟩)
      | (go_at_call 12; clear K2; refine (HPa.out _).mono ?_; rintro e w2 ⟨rfl, hx2⟩)
      | (go_at_call 12; refine (HPb.out _).mono ?_; rintro e w3 ⟨rfl, hx3⟩)
      | (go_at_call 14; clear K3; refine (HDc.out _).mono ?_; rintro e w4 ⟨rfl, hx4⟩)
      | (go_at_call 14; clear K4; refine (HDa.out _).mono ?_; rintro e w5 ⟨rfl, hx5⟩)
      | (go_at_call 14; refine (HDb.out _).mono ?_; rintro e w6 ⟨rfl, hx6⟩)
      | (go_at_call 16; clear K5; refine (HEc.out _).mono ?_; rintro e w7 ⟨rfl, hx7⟩)
      | (go_at_call 16; clear K6; refine (HEa.out _).mono ?_; rintro e w8 ⟨rfl, hx8⟩)
      | (go_at_call 16; refine (HEb.out _).mono ?_; rintro e w9 ⟨rfl, hx9⟩))
    go_ret
    exact ⟨by first | (simp; done) | rfl, ((((((((hx0.trans hx1).trans hx2).trans hx3).trans hx4).trans hx5).trans hx6).trans hx7).trans hx8).trans hx9⟩
theorem walk (a b : ByteArray) (W : World) : Calls Try.prog 5 #[.string a, .string b] W fun e w' => e = .returned (.bool true) ∧ Ext W w' := by
  by_cases h : a.size ≤ 500 ∧ b.size ≤ 500
  · by_cases h0 : 0 < a.size
    · by_cases hx : (a[a.size - 1]'(by omega)).toNat = 255
      · exact walk_ff a b W h.1 h.2 h0 hx
      · exact walk_main a b W h.1 h.2 (.inr ⟨h0, hx⟩)
    · exact walk_main a b W h.1 h.2 (.inl (by omega))
  · exact walk_long a b W (by omega)
set_option maxRecDepth 100000 in
theorem lifted (os : Os) (started : os.Started) (H : Type) (enc : TypeId × Value → H) :
    ReturnsInHanded {} Try.checked os 5 .any (Rows.syncPartsSpec.pre6 enc Try.prog Try.f5 Rows.syncPartsRow.domain false) (Rows.syncPartsSpec.post enc Try.prog Try.f5 false true false false) := by
  refine returnsInHanded_of_change (C := Try.checked) own started (by kernel_rfl) Try.func5
    (ChangeSpec.witness6 (enc := enc) (C := Try.checked) false ⟨#[], #[.string ByteArray.empty, .string ByteArray.empty], []⟩ 8 (by kernel_rfl) (by kernel_rfl) (by kernel_rfl) (by kernel_rfl)) ?_
  intro W base args ds gs before hval0 hW hcnd _
  have hval : ∀ (j : Nat) t v, Try.f5.params[j]? = some t → args[j]? = some v → Value.okWide Try.prog W .any base t v := hval0
  have hW' := hW
  obtain ⟨p, q, hA0, hV, rfl, hfz, hnd⟩ := hW
  have hA : DataW.TrodAll enc Try.prog W 0 (fun _ => true) true Try.f5.params.toList args.toList ds p := hA0
  rw [Try.params5] at hA hval
  obtain ⟨v0, vs0, d0, ds0, p0, q0, hargs, rfl, rfl, h0, r0⟩ := trodAll_cons hA
  obtain ⟨v1, vs1, d1, ds1, p1, q1, rfl, rfl, rfl, h1, r1⟩ := trodAll_cons r0
  obtain ⟨rfl, rfl, rfl⟩ := trodAll_nil r1
  obtain rfl : args = #[v0, v1] := by cases args; simp_all
  obtain ⟨rfl, rfl⟩ := trodVars_none hV
  obtain ⟨a0, rfl, rfl, rfl, w0⟩ := open_string Try.underlying9 (hval 0 9 v0 rfl rfl) h0
  obtain ⟨a1, rfl, rfl, rfl, w1⟩ := open_string Try.underlying9 (hval 1 9 v1 rfl rfl) h1
  clear hA0 hval0
  try simp only [List.append_nil] at hW'
  refine (walk a0 a1 W).mono fun e W' ⟨he, bel⟩ => ?_
  subst he
  exact ⟨_, rfl, _, _, _, [], [], [], hW', trodAll_mk1 (shut_bool Try.underlying4 _), (trodAll_cons_mk (shut_string Try.underlying9 w0) (trodAll_cons_mk (shut_string Try.underlying9 w1) trodAll_mk0)), rfl, bel.frame _, fun h => by cases h⟩

theorem and2 {a b : Bool} (ha : a = true) (hb : b = true) : (a && b) = true := by rw [ha, hb]; rfl
set_option maxHeartbeats 40000000 in
theorem closed : joinedFacts Try.pinned.checked.prog 5 Try.f5 Rows.syncPartsSpec Rows.syncPartsRow = true := by
  unfold joinedFacts
  repeat' with_reducible refine and2 ?_ ?_
  all_goals as_aux_lemma => kernel_rfl
theorem over : Rows.syncPartsRow.holds Try.pinned (OpenSpec.ofChange Rows.syncPartsSpec) :=
  OpenClaim.holds_of_wide 5 Try.f5 rfl rfl rfl rfl rfl rfl rfl ⟨rfl, rfl, rfl, rfl, rfl⟩ rfl rfl rfl rfl rfl (by kernel_rfl) Try.func5 closed
    (of_decide_eq_true (by kernel_rfl)) (by unfold Func.isWrapper; first | (rw [if_pos (by decide +kernel)]; kernel_rfl) | (rw [if_neg (by decide +kernel)]; exact ⟨rfl, rfl⟩))
    (fun os started H enc _ => lifted os started H enc)

/-- THE STATEMENT. -/
theorem proved : Rows.SyncPartsSaid := over
#print axioms proved

end Go.Proofs.Ytbdjncnofpbkkaa.syncParts
