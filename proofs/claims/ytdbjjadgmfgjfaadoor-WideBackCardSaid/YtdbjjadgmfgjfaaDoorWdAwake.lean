/-
  The document's example of layer 3; what stands in memory behind calls that answer faults.
-/
import Derived.Test.YtdbjjadgmfgjfaaDoorWdR2
import Derived.Deep.RegionHeld3
namespace Go.Proofs.YtdbjjadgmfgjfaaDoor
open Go Go.ChangeShapes Go.WideShapes Go.ChangeAt Go.RowKit
set_option linter.unusedSimpArgs false
set_option linter.unusedVariables false

/-- A world that came of another one; the tables stand; in block f stands a fault. -/
structure Fx (w0 w : World) (f : Nat) (x y : Int) : Prop where
  ex : Ext w0 w
  tb : Tabs w
  cf : w.heap[f]? = some (.cells #[.int .i64 x, .int .i64 y] 25 (0, 0))
theorem Fx.ext {w0 w w' : World} {f : Nat} {x y : Int} (h : Fx w0 w f x y) (k : Ext w w') : Fx w0 w' f x y :=
  ⟨h.ex.trans k, h.tb.ext k, (k.block f (lt_of_block h.cf)).trans h.cf⟩
theorem Fx.made {w0 w1 : World} (hT : Tabs w0) (hx : Ext w0 w1) (x y : Int) : Fx w0 (w1.alloc (.cells #[.int .i64 x, .int .i64 y] 25)) w1.heap.size x y :=
  have k := hx.alloc (.cells #[.int .i64 x, .int .i64 y] 25)
  ⟨k, hT.ext k, heap_alloc_new w1 _⟩
theorem Fx.cells {w0 w : World} {f : Nat} {x y : Int} (h : Fx w0 w f x y) : w.cell? ⟨f, 0, none⟩ = some (.int .i64 x) ∧ w.cell? ⟨f, 1, none⟩ = some (.int .i64 y) := by
  simp [World.cell?, h.cf]
theorem Fx.lt {w0 w : World} {f : Nat} {x y : Int} (h : Fx w0 w f x y) : f < w.heap.size := lt_of_block h.cf
theorem ex_mark (w : World) (hT : Tabs w) : Calls Tryd.prog 17 #[.string ⟨#[97]⟩] w fun e w' => e = .returned (.tuple #[.string ⟨#[255, 254, 97, 0]⟩, .agg #[.int .i64 0, .int .i64 0]]) ∧ Ext w w' := by
  have h := withmark_good ⟨#[97]⟩ w hT (by decide) (by decide +kernel)
  have e : markTxt (signsOf ⟨#[97]⟩) = ⟨#[255, 254, 97, 0]⟩ := by decide +kernel
  rwa [e] at h
theorem ex_marked (w : World) : Calls Tryd.prog 16 #[.string ⟨#[254, 255, 216, 61, 222, 0]⟩] w fun e w' => e = .returned (.tuple #[.string ⟨#[240, 159, 152, 128]⟩, .agg #[.int .i64 0, .int .i64 0]]) ∧ Ext w w' := by
  have h := marked_yes ⟨#[254, 255, 216, 61, 222, 0]⟩ true w (by decide) (by decide) (fun w => mark_big _ w (by decide) (by decide))
  have e1 : (wdAt true ⟨#[254, 255, 216, 61, 222, 0]⟩ 2).2 = -1 := by decide +kernel
  have e2 : wtxt (wdAt true ⟨#[254, 255, 216, 61, 222, 0]⟩ 2).1 (-1) = ⟨#[240, 159, 152, 128]⟩ := by decide +kernel
  rw [e1, e2] at h
  exact h
theorem ex_decode (w : World) : Calls Tryd.prog 8 #[.string ⟨#[216, 0, 0, 65]⟩, .bool true] w fun e w' => e = .returned (.tuple #[.string ⟨#[]⟩, .agg #[.int .i64 2, .int .i64 0]]) ∧ Ext w w' := by
  have h := decode_any ⟨#[216, 0, 0, 65]⟩ true w (by decide)
  have e1 : (wdS true ⟨#[216, 0, 0, 65]⟩).2 = 0 := by decide +kernel
  rw [e1] at h
  exact h
/-- Three faults. -/
structure Aw (w0 w : World) (f g k : Nat) : Prop where
  a : Fx w0 w f 0 0
  b : Fx w0 w g 0 0
  c : Fx w0 w k 2 0
theorem Aw.ext {w0 w w' : World} {f g k : Nat} (h : Aw w0 w f g k) (x : Ext w w') : Aw w0 w' f g k := ⟨h.a.ext x, h.b.ext x, h.c.ext x⟩
set_option maxRecDepth 100000 in
set_option maxHeartbeats 1000000 in
theorem awake3_any (w : World) (hT : Tabs w) : Calls Tryd.prog 18 #[] w fun e w' => e = .returned (.bool true) ∧ Ext w w' := by
  have HT := Lib.hid hT
  clear hT
  go_enter Tryd.func18, Tryd.ntmps18
  go_wp2_with (first
    | (go_at_call 17; refine (ex_mark _ HT.out).mono ?_; rintro e w1 ⟨rfl, hb1⟩; have H1 := Fx.made HT.out hb1 0 0)
    | (go_at_call 16; refine (ex_marked _).mono ?_; rintro e w2 ⟨rfl, hb2⟩; have H2 := Fx.made HT.out (H1.ex.trans hb2) 0 0; have H1 := (H1.ext hb2).ext ((Ext.refl w2).alloc (.cells #[.int .i64 0, .int .i64 0] 25)); clear hb2)
    | (go_at_call 8; refine (ex_decode _).mono ?_; rintro e w3 ⟨rfl, hb3⟩; have H3 := Fx.made HT.out (H2.ex.trans hb3) 2 0; have hA : Aw w _ w1.heap.size w2.heap.size w3.heap.size := ⟨(H1.ext hb3).ext ((Ext.refl w3).alloc (.cells #[.int .i64 2, .int .i64 0] 25)), (H2.ext hb3).ext ((Ext.refl w3).alloc (.cells #[.int .i64 2, .int .i64 0] 25)), H3⟩; clear H1 H2 H3 hb3)
    | (go_at_call 30; refine (awake02 _ hA.a.tb).mono ?_; rintro e wx ⟨rfl, hbx⟩; have hA' := hA.ext hbx; clear hA hbx; have hA := hA'; clear hA'; obtain ⟨a0, a1⟩ := hA.a.cells; obtain ⟨b0, b1⟩ := hA.b.cells; obtain ⟨c0, c1⟩ := hA.c.cells)
    | (go_at_call 12; refine (bad_no _ _ _ (by decide)).mono ?_; rintro e wx ⟨rfl, hbx⟩; have hA' := hA.ext hbx; clear hA hbx; have hA := hA'; clear hA'; obtain ⟨a0, a1⟩ := hA.a.cells; obtain ⟨b0, b1⟩ := hA.b.cells; obtain ⟨c0, c1⟩ := hA.c.cells))
  go_ret
  exact ⟨rfl, hA.a.ex⟩
theorem awake3 (w : World) (hT : Tabs w) : Calls Tryd.prog 7 #[] w fun e w' => e = .returned (.bool true) ∧ Ext w w' := by
  go_enter Tryd.func7, Tryd.ntmps7
  go_wp2_with (first | (go_at_call 18; refine (awake3_any _ hT).mono ?_; rintro e w1 ⟨rfl, hb1⟩))
  go_ret
  exact ⟨rfl, hb1⟩
end Go.Proofs.YtdbjjadgmfgjfaaDoor
