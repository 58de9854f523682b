/-
  Layer 5: charsets behind calls; the document's example.
-/
import Derived.Test.YtjlghdlbkibneaaDoorSc5
namespace Go.Proofs.YtjlghdlbkibneaaDoor
open Go Go.ChangeShapes Go.WideShapes Go.ChangeAt Go.RowKit
set_option linter.unusedSimpArgs false
set_option linter.unusedVariables false

theorem setOf (c : Int) {w : World} {ta tb : Option Addr} {n1 tc n2 td : Nat} {l : List Pr} (h : IsTab w (.agg #[.slice ta n1 tc, .slice tb n2 td]) l) : IsSet w (.agg #[.slice ta n1 tc, .slice tb n2 td, .int .i64 c]) c l := ⟨ta, n1, tc, tb, n2, td, rfl, h⟩
theorem KeepT.three {W w : World} {cs : List (Addr × Value)} {ts : List (Value × List Pr)} (h : KeepT W cs ts w) (x y z : Value) (T : TypeId) : KeepT W ((⟨w.heap.size, 0, none⟩, x) :: (⟨w.heap.size, 1, none⟩, y) :: (⟨w.heap.size, 2, none⟩, z) :: cs) ts (w.alloc (.cells #[x, y, z] T)) := by
  obtain ⟨⟨h1, h2, h3⟩, _⟩ := facts3 (heap_alloc_new w (.cells #[x, y, z] T))
  have k := h.ext ((Ext.refl w).alloc (.cells #[x, y, z] T))
  exact ⟨k.ex, k.tb, ⟨h1, h2, h3, k.c⟩, k.t⟩
theorem enc_yes (v : Value) (c : Nat) (hc : c ≤ 3) (zs : List Int) (w : World) (hT : Tabs w) (h : IsSet w v c (tabP c)) (hsg : allSigns zs = true) (hzl : zs.length ≤ 100000) (hb : badZ c 0 zs < 0) :
    Calls Tryd.prog 31 #[v, .string (txt zs)] w fun e w' => e = .returned (.tuple #[.string ⟨(encZ c zs).toArray⟩, .agg #[.int .i64 0, .int .i64 0]]) ∧ Ext w w' := by
  have h2 := set_encode v c (tabP c) zs w hT h (from_tab c hc) (rev_bd c hc) hsg hzl
  rw [rev_tab_fun c hc] at h2
  refine h2.mono ?_
  rintro e w' ⟨⟨_, rfl⟩ | ⟨h3, _⟩, hx⟩
  · exact ⟨rfl, hx⟩
  · rw [badG_z] at h3
    exact absurd hb h3
theorem enc_no (v : Value) (c : Nat) (hc : c ≤ 3) (zs : List Int) (a : Int) (w : World) (hT : Tabs w) (h : IsSet w v c (tabP c)) (hsg : allSigns zs = true) (hzl : zs.length ≤ 100000) (hb : badZ c 0 zs = a) (ha : ¬ a < 0) :
    Calls Tryd.prog 31 #[v, .string (txt zs)] w fun e w' => e = .returned (.tuple #[.string ⟨#[]⟩, .agg #[.int .i64 6, .int .i64 a]]) ∧ Ext w w' := by
  have h2 := set_encode v c (tabP c) zs w hT h (from_tab c hc) (rev_bd c hc) hsg hzl
  rw [rev_tab_fun c hc] at h2
  refine h2.mono ?_
  rintro e w' ⟨⟨h3, _⟩ | ⟨_, rfl⟩, hx⟩
  · rw [badG_z, hb] at h3
    exact absurd h3 ha
  · rw [badG_z, hb]
    exact ⟨rfl, hx⟩
theorem ex_dec5 (v : Value) (w : World) (h : IsSet w v 1 (tabP 1)) : Calls Tryd.prog 30 #[v, .string ⟨#[193, 194]⟩] w fun e w' => e = .returned (.tuple #[.string ⟨#[208, 176, 208, 177]⟩, .agg #[.int .i64 0, .int .i64 0]]) ∧ Ext w w' := by
  have h2 := set_decode v 1 ⟨#[193, 194]⟩ w h (by decide) (by decide)
  have e : txt (decZ (1 : Nat) (⟨#[193, 194]⟩ : ByteArray).data.toList) = ⟨#[208, 176, 208, 177]⟩ := by decide +kernel
  rw [e] at h2
  exact h2
theorem ex_enc5 (v : Value) (w : World) (hT : Tabs w) (h : IsSet w v 0 (tabP 0)) : Calls Tryd.prog 31 #[v, .string ⟨#[208, 132]⟩] w fun e w' => e = .returned (.tuple #[.string ⟨#[]⟩, .agg #[.int .i64 6, .int .i64 0]]) ∧ Ext w w' := by
  have h2 := enc_no v 0 (by decide) [1028] 0 w hT h (by decide +kernel) (by decide) (by decide +kernel) (by decide)
  have e : txt [1028] = ⟨#[208, 132]⟩ := by decide +kernel
  rw [e] at h2
  exact h2
set_option maxRecDepth 100000 in
set_option maxHeartbeats 4000000 in
theorem awake5_any (w : World) (hT : Tabs w) : Calls Tryd.prog 53 #[] w fun e w' => e = .returned (.bool true) ∧ Ext w w' := by
  have hC := KeepT.start hT
  have K1 := Lib.hid trivial
  have K2 := Lib.hid trivial
  have K3 := Lib.hid trivial
  have K4 := Lib.hid trivial
  clear hT
  go_enter Tryd.func53, Tryd.ntmps53
  go_wp2_with (first
    | (go_at_call 27; clear K1; refine (of_koi _ hC.tb).mono ?_; rintro e w1 ⟨va, rfl, ⟨aa, an, ac, ab, am, ad, rfl, ht⟩, hb⟩; have hC' := ((hC.ext hb).tab ht).three (.slice aa an ac) (.slice ab am ad) (.int .i64 1) 56; clear hC hb ht ; have hC := hC'; clear hC'; obtain ⟨a0, a1, a2, _⟩ := hC.c)
    | (go_at_call 30; clear K2; refine (ex_dec5 _ _ (setOf 1 hC.t.1)).mono ?_; rintro e w2 ⟨rfl, hb⟩; have hC' := (hC.ext hb).two (.int .i64 0) (.int .i64 0) 30; clear hC hb a0 a1 a2; have hC := hC'; clear hC'; obtain ⟨f0, f1, a0, a1, a2, _⟩ := hC.c)
    | (go_at_call 27; clear K3; refine (of_lat _ hC.tb).mono ?_; rintro e w3 ⟨vb, rfl, ⟨ba, bn, bc, bb, bm, bd, rfl, ht⟩, hb⟩; have hC' := ((hC.ext hb).tab ht).three (.slice ba bn bc) (.slice bb bm bd) (.int .i64 0) 56; clear hC hb ht f0 f1 a0 a1 a2; have hC := hC'; clear hC'; obtain ⟨b0, b1, b2, f0, f1, a0, a1, a2, _⟩ := hC.c)
    | (go_at_call 31; clear K4; refine (ex_enc5 _ _ hC.tb (setOf 0 hC.t.1)).mono ?_; rintro e w4 ⟨rfl, hb⟩; have hC' := (hC.ext hb).two (.int .i64 6) (.int .i64 0) 30; clear hC hb b0 b1 b2 f0 f1 a0 a1 a2; have hC := hC'; clear hC'; obtain ⟨g0, g1, b0, b1, b2, f0, f1, a0, a1, a2, _⟩ := hC.c)
    | (go_at_call 75; refine (awake02 _ hC.tb).mono ?_; rintro e w5 ⟨rfl, hb⟩; have hC' := hC.ext hb; clear hC hb g0 g1 b0 b1 b2 f0 f1 a0 a1 a2; have hC := hC'; clear hC'; obtain ⟨g0, g1, b0, b1, b2, f0, f1, a0, a1, a2, _⟩ := hC.c)
    | (go_at_call 36; refine (awake4_any _ hC.tb).mono ?_; rintro e w6 ⟨rfl, hb⟩; have hC' := hC.ext hb; clear hC hb g0 g1 b0 b1 b2 f0 f1 a0 a1 a2; have hC := hC'; clear hC'; obtain ⟨g0, g1, b0, b1, b2, f0, f1, a0, a1, a2, _⟩ := hC.c)
    | (go_at_call 17; refine (bad_no _ _ _ (by decide)).mono ?_; rintro e w7 ⟨rfl, hb⟩; have hC' := hC.ext hb; clear hC hb g0 g1 b0 b1 b2 f0 f1 a0 a1 a2; have hC := hC'; clear hC'; obtain ⟨g0, g1, b0, b1, b2, f0, f1, a0, a1, a2, _⟩ := hC.c))
  go_ret
  exact ⟨rfl, hC.ex⟩
theorem awake5 (w : World) (hT : Tabs w) : Calls Tryd.prog 28 #[] w fun e w' => e = .returned (.bool true) ∧ Ext w w' := by
  go_enter Tryd.func28, Tryd.ntmps28
  go_wp2_with (first | (go_at_call 53; refine (awake5_any _ hT).mono ?_; rintro e w1 ⟨rfl, hb1⟩))
  go_ret
  exact ⟨rfl, hb1⟩
end Go.Proofs.YtjlghdlbkibneaaDoor
