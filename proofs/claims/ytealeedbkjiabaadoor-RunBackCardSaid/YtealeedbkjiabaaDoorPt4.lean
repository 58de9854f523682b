/-
  Contracts of package point (4): a text's signs where there is a place without one; the document's example.
-/
import Derived.Test.YtealeedbkjiabaaDoorPt3
namespace Go.Proofs.YtealeedbkjiabaaDoor
open Go Go.ChangeShapes Go.WideShapes Go.ChangeAt Go.RowKit
set_option linter.unusedSimpArgs false
set_option linter.unusedVariables false

set_option maxRecDepth 100000 in
set_option maxHeartbeats 1000000 in
theorem points_bad (s : ByteArray) (a : Int) (w : World) (hT : Tabs w) (hs : s.size ≤ 1099511627776) (hb : badL 0 s.data.toList = a) (ha : ¬ a < 0) :
    Calls Tryd.prog 63 #[.string s] w fun e w' => e = .returned (.tuple #[.slice none 0 0, .agg #[.int .i64 2, .int .i64 a]]) ∧ Ext w w' := by
  have hck : ∀ w0 : World, Tabs w0 → Calls Tryd.prog 56 #[.string s] w0 fun e w' => e = .returned (.agg #[.int .i64 2, .int .i64 a]) ∧ Ext w0 w' := fun w0 h => by
    have h2 := check_any s w0 h hs
    rw [hb, fNum_yes ha, fPlace_yes ha] at h2
    exact h2
  have HC := Lib.hid hck
  have HT := Lib.hid hT
  clear hck hT hb
  go_enter Tryd.func63, Tryd.ntmps63
  obtain ⟨b, hbe⟩ : ∃ b, b = w.heap.size := ⟨_, rfl⟩
  go_wp2_with (first | (go_at_call 56; refine (HC.out _ (HT.out.ext ((Ext.refl w).alloc _))).mono ?_; rintro e w1 ⟨rfl, hb1⟩) | (go_at_call 17; refine (bad_yes _ _ _ (by decide)).mono ?_; rintro e w2 ⟨rfl, hb2⟩))
  have hlt1 : w.heap.size < w1.heap.size := Nat.lt_of_lt_of_le (by simp) hb1.size
  have hlt2 : w1.heap.size < w2.heap.size := Nat.lt_of_lt_of_le (by simp) hb2.size
  have hF : w2.heap[w1.heap.size]? = some (.cells #[.int .i64 2, .int .i64 a] 30 (0, 0)) := (hb2.block w1.heap.size (by simp)).trans (heap_alloc_new w1 _)
  have hR1 : w1.heap[w.heap.size]? = some (.cells #[.int .i64 0, .int .i64 0] 30 (0, 0)) := (hb1.block w.heap.size (by simp)).trans (heap_alloc_new w _)
  have hR : w2.heap[w.heap.size]? = some (.cells #[.int .i64 0, .int .i64 0] 30 (0, 0)) := ((((Ext.refl w1).alloc _).trans hb2).block w.heap.size hlt1).trans hR1
  have hx : Ext w w2 := ((Ext.refl w).alloc _).trans (hb1.trans (((Ext.refl w1).alloc _).trans hb2))
  obtain ⟨c, hce⟩ : ∃ c, c = w1.heap.size := ⟨_, rfl⟩
  have hbc : b ≠ c := by omega
  have hlb : w.heap.size ≤ b := by omega
  rw [← hbe] at hR ⊢
  rw [← hce] at hF ⊢
  clear hbe hce hb1 hb2 hR1 hlt1 hlt2
  have f0 : w2.cell? ⟨c, 0, none⟩ = some (.int .i64 2) := by simp [World.cell?, hF]
  have f1 : w2.cell? ⟨c, 1, none⟩ = some (.int .i64 a) := by simp [World.cell?, hF]
  have r0 : w2.cell? ⟨b, 0, none⟩ = some (.int .i64 0) := by simp [World.cell?, hR]
  have r1 : w2.cell? ⟨b, 1, none⟩ = some (.int .i64 0) := by simp [World.cell?, hR]
  have z0 : w2.frozen? ⟨b, 0, none⟩ = false := by simp [World.frozen?, hR]
  have z1 : w2.frozen? ⟨b, 1, none⟩ = false := by simp [World.frozen?, hR]
  clear hF
  go_region
  all_goals go_wp2
  have hfin := set_two hR (.int .i64 2) (.int .i64 a)
  have hxf : Ext w ((w2.setCell ⟨b, 0, none⟩ (.int .i64 2)).setCell ⟨b, 1, none⟩ (.int .i64 a)) := Ext.setCell (Ext.setCell hx hlb _) hlb _
  generalize (w2.setCell ⟨b, 0, none⟩ (.int .i64 2)).setCell ⟨b, 1, none⟩ (.int .i64 a) = wf at hfin hxf ⊢
  have k0 : wf.drew.cell? ⟨b, 0, none⟩ = some (.int .i64 2) := by show wf.cell? _ = _; simp [World.cell?, hfin]
  have k1 : wf.drew.cell? ⟨b, 1, none⟩ = some (.int .i64 a) := by show wf.cell? _ = _; simp [World.cell?, hfin]
  refine bodyPost_ret (v := .tuple #[.slice none 0 0, .agg #[.int .i64 2, .int .i64 a]]) (by simp [results, Tryd.results63, go_sem, k0, k1]) rfl ?_
  exact ⟨rfl, hxf.drew⟩

theorem one_cells (p : Int) (w : World) : ∀ (j : Nat) z, [p][j]? = some z → (w.alloc (.cells #[.int .i32 p] 21)).cell? ⟨w.heap.size, 0 + j, none⟩ = some (.int .i32 z) := by
  intro j z hj
  cases j with
  | zero =>
    obtain rfl : p = z := by simpa using hj
    have h : (w.alloc (.cells #[.int .i32 p] 21)).heap[w.heap.size]? = some (.cells #[.int .i32 p] 21 (0, 0)) := heap_alloc_new w _
    simp only [World.cell?, h]
    rfl
  | succ j => simp at hj
theorem text_one (p : Int) (w : World) : Calls Tryd.prog 55 #[.slice (some ⟨w.heap.size, 0, none⟩) 1 1] (w.alloc (.cells #[.int .i32 p] 21)) fun e w' => e = .returned (.tuple #[.string (textOut [p]), .bool (allSigns [p])]) ∧ Ext w w' :=
  (text_in w.heap.size 0 1 [p] (w.alloc (.cells #[.int .i32 p] 21)) (one_cells p w) (by simp) (by simp) (by simp)).mono fun e w' ⟨he, hx⟩ => ⟨he, ((Ext.refl w).alloc _).trans hx⟩
theorem ex_text (w : World) : Calls Tryd.prog 55 #[.slice (some ⟨w.heap.size, 0, none⟩) 1 1] (w.alloc (.cells #[.int .i32 233] 21)) fun e w' => e = .returned (.tuple #[.string ⟨#[195, 169]⟩, .bool true]) ∧ Ext w w' := by
  have e1 : textOut [233] = ⟨#[195, 169]⟩ := by decide +kernel
  have e2 : allSigns [233] = true := by decide +kernel
  have h := text_one 233 w
  rw [e1, e2] at h
  exact h
theorem ex_points (w : World) (hT : Tabs w) : Calls Tryd.prog 63 #[.string ⟨#[97, 195, 97]⟩] w fun e w' => e = .returned (.tuple #[.slice none 0 0, .agg #[.int .i64 2, .int .i64 1]]) ∧ Ext w w' :=
  points_bad _ 1 w hT (by decide) (by decide +kernel) (by decide)
set_option maxRecDepth 100000 in
set_option maxHeartbeats 400000 in
theorem awake02 (w : World) (hT : Tabs w) : Calls Tryd.prog 75 #[] w fun e w' => e = .returned (.bool true) ∧ Ext w w' := by
  go_enter Tryd.func75, Tryd.ntmps75
  go_wp2_with (first | (go_at_call 55; refine (ex_text _).mono ?_; rintro e w1 ⟨rfl, hb1⟩) | (go_at_call 63; refine (ex_points _ (hT.ext hb1)).mono ?_; rintro e w2 ⟨rfl, hb2⟩))
  go_ret
  exact ⟨rfl, (hb1.trans hb2).alloc _⟩
end Go.Proofs.YtealeedbkjiabaaDoor
