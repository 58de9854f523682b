/-
  The law PointCuts holds at every list of numbers and every text: of two texts, one behind the other, the first made of signs, what is wrong is wrong in the second, so many bytes further.
  Conditions: none beyond the row's own.
-/
import Derived.Test.YtdegnjbpjffgmaaDoorPtRow
import Derived.ChangeMaps
import Derived.ChangeSlices
import Derived.ChangeOld
import Derived.Deep.RegionHeld3
import Derived.IntWalk
namespace Go.Proofs.YtdegnjbpjffgmaaDoor.pointCuts
open Go Go.Proofs.YtdegnjbpjffgmaaDoor Go.ChangeShapes Go.WideShapes Go.ChangeAt Go.RowKit
open Go.ChangeMaps (open_string shut_string)
set_option linter.unusedSimpArgs false
set_option linter.unusedVariables false

theorem walk_long (a : Option Addr) (len cap : Nat) (s : ByteArray) (w : World) (hT : Tabs w) (h : 200 < (len : Int)) :
    Calls Tryd.prog 7 #[.slice a len cap, .string s] w fun e w' => e = .returned (.bool true) ∧ Ext w w' := by
  go_enter Tryd.func7, Tryd.ntmps7
  go_wp2_with (go_at_call 11; refine (awake_yes _ hT).mono ?_; rintro e w2 ⟨rfl, hb2⟩)
  go_ret
  exact ⟨rfl, hb2⟩
theorem walk_long2 (a : Option Addr) (len cap : Nat) (s : ByteArray) (w : World) (hT : Tabs w) (h0 : ¬ 200 < (len : Int)) (h : 500 < (s.size : Int)) :
    Calls Tryd.prog 7 #[.slice a len cap, .string s] w fun e w' => e = .returned (.bool true) ∧ Ext w w' := by
  go_enter Tryd.func7, Tryd.ntmps7
  go_wp2_with (go_at_call 11; refine (awake_yes _ hT).mono ?_; rintro e w2 ⟨rfl, hb2⟩)
  go_ret
  exact ⟨rfl, hb2⟩
theorem walk_none (a : Option Addr) (len cap : Nat) (s : ByteArray) (w : World) (hT : Tabs w) (h0 : ¬ 200 < (len : Int)) (h : ¬ 500 < (s.size : Int)) (u : ByteArray)
    (X : ∀ w1, Ext w w1 → Calls Tryd.prog 8 #[.slice a len cap] w1 fun e w' => e = .returned (.tuple #[.string u, .bool false]) ∧ Ext w1 w') :
    Calls Tryd.prog 7 #[.slice a len cap, .string s] w fun e w' => e = .returned (.bool true) ∧ Ext w w' := by
  have HX := Lib.hid X
  have HT := Lib.hid hT
  clear X hT
  go_enter Tryd.func7, Tryd.ntmps7
  go_wp2_with (first | (go_at_call 8; refine (HX.out _ (Ext.refl _)).mono ?_; rintro e w1 ⟨rfl, hb1⟩) | (go_at_call 11; refine (awake_yes _ (HT.out.ext hb1)).mono ?_; rintro e w2 ⟨rfl, hb2⟩))
  go_ret
  exact ⟨rfl, hb1.trans hb2⟩
/-- Two faults in memory. -/
structure Two (w0 w : World) (f g : Nat) (x0 x1 y0 y1 : Int) : Prop where
  ex : Ext w0 w
  tb : Tabs w
  cf : w.heap[f]? = some (.cells #[.int .i64 x0, .int .i64 x1] 30 (0, 0))
  cg : w.heap[g]? = some (.cells #[.int .i64 y0, .int .i64 y1] 30 (0, 0))
theorem Two.ext {w0 w w' : World} {f g : Nat} {x0 x1 y0 y1 : Int} (h : Two w0 w f g x0 x1 y0 y1) (k : Ext w w') : Two w0 w' f g x0 x1 y0 y1 :=
  ⟨h.ex.trans k, h.tb.ext k, (k.block f (lt_of_block h.cf)).trans h.cf, (k.block g (lt_of_block h.cg)).trans h.cg⟩
theorem Two.made {w0 w3 : World} (x0 x1 y0 y1 : Int) (hx : Ext w0 w3) (hT : Tabs w3) :
    Two w0 ((w3.alloc (.cells #[.int .i64 x0, .int .i64 x1] 30)).alloc (.cells #[.int .i64 y0, .int .i64 y1] 30)) w3.heap.size (w3.heap.size + 1) x0 x1 y0 y1 := by
  have h1 : Ext w3 (w3.alloc (.cells #[.int .i64 x0, .int .i64 x1] 30)) := (Ext.refl w3).alloc _
  have h2 : Ext (w3.alloc (.cells #[.int .i64 x0, .int .i64 x1] 30)) ((w3.alloc (.cells #[.int .i64 x0, .int .i64 x1] 30)).alloc (.cells #[.int .i64 y0, .int .i64 y1] 30)) := (Ext.refl _).alloc _
  refine ⟨hx.trans (h1.trans h2), hT.ext (h1.trans h2), (h2.block _ (by simp)).trans (heap_alloc_new w3 _), ?_⟩
  have h3 := heap_alloc_new (w3.alloc (.cells #[.int .i64 x0, .int .i64 x1] 30)) (.cells #[.int .i64 y0, .int .i64 y1] 30)
  have e : (w3.alloc (.cells #[.int .i64 x0, .int .i64 x1] 30)).heap.size = w3.heap.size + 1 := by simp
  rwa [e] at h3
theorem Two.cells {w0 w : World} {f g : Nat} {x0 x1 y0 y1 : Int} (h : Two w0 w f g x0 x1 y0 y1) : w.cell? ⟨f, 0, none⟩ = some (.int .i64 x0) ∧ w.cell? ⟨f, 1, none⟩ = some (.int .i64 x1) ∧ w.cell? ⟨g, 0, none⟩ = some (.int .i64 y0) ∧ w.cell? ⟨g, 1, none⟩ = some (.int .i64 y1) := by
  simp [World.cell?, h.cf, h.cg]
set_option maxRecDepth 100000 in
set_option maxHeartbeats 1000000 in
theorem walk_bad (a : Option Addr) (len cap : Nat) (s : ByteArray) (w : World) (hT : Tabs w) (h0 : ¬ 200 < (len : Int)) (h : ¬ 500 < (s.size : Int)) (u : ByteArray) (hu : u.size ≤ 800) (q : Int)
    (X : ∀ w1, Ext w w1 → Calls Tryd.prog 8 #[.slice a len cap] w1 fun e w' => e = .returned (.tuple #[.string u, .bool true]) ∧ Ext w1 w')
    (F : ∀ w1, Tabs w1 → Calls Tryd.prog 21 #[.string s] w1 fun e w' => e = .returned (.agg #[.int .i64 2, .int .i64 q]) ∧ Ext w1 w')
    (G : ∀ w1, Tabs w1 → Calls Tryd.prog 21 #[.string (u ++ s)] w1 fun e w' => e = .returned (.agg #[.int .i64 2, .int .i64 (u.size + q)]) ∧ Ext w1 w')
    (hq : 0 ≤ q) (hq2 : q ≤ 500) :
    Calls Tryd.prog 7 #[.slice a len cap, .string s] w fun e w' => e = .returned (.bool true) ∧ Ext w w' := by
  have HX := Lib.hid X
  have HF := Lib.hid F
  have HG := Lib.hid G
  have HT := Lib.hid hT
  clear X hT F G
  go_enter Tryd.func7, Tryd.ntmps7
  go_wp2_with (first | (go_at_call 8; refine (HX.out _ (Ext.refl _)).mono ?_; rintro e w1 ⟨rfl, hb1⟩; have T1 := HT.out.ext hb1) | (with_reducible (go_at_call 21; refine (HF.out _ T1).mono ?_); rintro e w2 ⟨rfl, hb2⟩; have T2 := T1.ext hb2) | (with_reducible (go_at_call 21; refine (HG.out _ T2).mono ?_); rintro e w3 ⟨rfl, hb3⟩))
  have hC := Two.made 2 q 2 (u.size + q) (hb1.trans (hb2.trans hb3)) (T2.ext hb3)
  have hwr : IntKind.i64.wrap ((u.size : Int) + q) = u.size + q := IntWalk.i64_in _ (by omega)
  obtain ⟨W, hW⟩ : ∃ W, W = (w3.alloc (.cells #[.int .i64 2, .int .i64 q] 30)).alloc (.cells #[.int .i64 2, .int .i64 (u.size + q)] 30) := ⟨_, rfl⟩
  rw [← hW] at hC ⊢
  generalize w3.heap.size + 1 = g at hC ⊢
  generalize w3.heap.size = f at hC ⊢
  clear hW hb1 hb2 hb3 T1 T2
  obtain ⟨q0, q1, q2, q3⟩ := hC.cells
  have hC2 := hC.ext (Ext.drew (Ext.refl _))
  clear hC
  have hC := hC2
  clear hC2
  go_region_held3 (fun W' => W'.cell? ⟨f, 0, none⟩ = some (.int .i64 2) ∧ W'.cell? ⟨f, 1, none⟩ = some (.int .i64 q) ∧ W'.cell? ⟨g, 0, none⟩ = some (.int .i64 2) ∧ W'.cell? ⟨g, 1, none⟩ = some (.int .i64 (u.size + q))) (go_keep)
    (first | (go_at_call 11; refine (awake_yes _ hC.tb).mono ?_; rintro e wx ⟨rfl, hbx⟩; have hC' := hC.ext hbx; clear hC hbx; have hC := hC'; clear hC'; obtain ⟨q0, q1, q2, q3⟩ := hC.cells) | (go_at_call 16; refine (bad_yes _ _ _ (by decide)).mono ?_; rintro e wx ⟨rfl, hbx⟩; have hC' := hC.ext hbx; clear hC hbx; have hC := hC'; clear hC'; obtain ⟨q0, q1, q2, q3⟩ := hC.cells))
  go_wp2
  go_ret
  exact ⟨by simp, hC.ex⟩
end Go.Proofs.YtdegnjbpjffgmaaDoor.pointCuts
