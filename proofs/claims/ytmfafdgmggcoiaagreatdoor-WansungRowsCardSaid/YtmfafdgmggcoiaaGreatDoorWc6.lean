/-
  Layer 7, the code (6): the spans and the lists; the sign of a code of the rows.
-/
import Derived.Test.YtmfafdgmggcoiaaGreatDoorWc5
import Derived.Deep.WholeRow
namespace Go.Proofs.YtmfafdgmggcoiaaGreatDoor
open Go Go.ChangeShapes Go.WideShapes Go.ChangeAt Go.RowKit
set_option linter.unusedSimpArgs false
set_option linter.unusedVariables false

theorem cseq (f t n : Int) (w : World) : Calls Tryz.prog 16 #[.int .i64 f, .int .i32 t, .int .i64 n] w fun e w' => e = .returned (.agg #[.int .i64 f, .int .i32 t, .int .i64 n, .string ⟨#[]⟩]) ∧ Ext w w' := by
  go_enter Tryz.func16, Tryz.ntmps16
  go_wp2
  refine bodyPost_ret (v := .agg #[.int .i64 f, .int .i32 t, .int .i64 n, .string ⟨#[]⟩]) (by simp [results, Tryz.results16, go_sem]) rfl ?_
  exact ⟨rfl, (by repeat (first | exact Ext.refl _ | refine Ext.alloc ?_ _ | refine Ext.setCell ?_ (Nat.le_refl _) _))⟩
theorem clist (f : Int) (x : ByteArray) (w : World) : Calls Tryz.prog 19 #[.int .i64 f, .string x] w fun e w' => e = .returned (.agg #[.int .i64 f, .int .i32 0, .int .i64 0, .string x]) ∧ Ext w w' := by
  go_enter Tryz.func19, Tryz.ntmps19
  go_wp2
  refine bodyPost_ret (v := .agg #[.int .i64 f, .int .i32 0, .int .i64 0, .string x]) (by simp [results, Tryz.results19, go_sem]) rfl ?_
  exact ⟨rfl, (by repeat (first | exact Ext.refl _ | refine Ext.alloc ?_ _ | refine Ext.setCell ?_ (Nat.le_refl _) _))⟩
/-- The spans: the first code, the first sign, how many. -/
def spL : List (Nat × Nat × Nat) := [(41889, 65281, 59), (41948, 65510, 1), (41949, 65341, 33), (41982, 65507, 1), (42145, 12593, 94), (42401, 8560, 10), (42416, 8544, 10), (42433, 913, 17), (42450, 931, 7), (42465, 945, 17), (42482, 963, 7), (43681, 12353, 83), (43937, 12449, 86), (44193, 1040, 6), (44199, 1025, 1), (44200, 1046, 26), (44241, 1072, 6), (44247, 1105, 1), (44248, 1078, 26)]
def spF (i : Nat) : Nat := (spL.getD i (0, 0, 0)).1
def spT (i : Nat) : Nat := (spL.getD i (0, 0, 0)).2.1
def spN (i : Nat) : Nat := (spL.getD i (0, 0, 0)).2.2
def spC : Array Value := (spL.flatMap fun p => [Value.int .i64 (p.1 : Int), .int .i32 (p.2.1 : Int), .int .i64 (p.2.2 : Int), .string ⟨#[]⟩]).toArray
theorem put_spans (w : World) (g : Nat) (Z : Array Value) (hz : Z.size = 76) (hg : w.heap[g]? = some (.cells Z 30 (0, 0))) (L : List Value) (hL : L = spC.toList) :
    (storeCells ⟨g, 0, none⟩ L 0).run Tryz.prog w = .ok () (w.setRow g spC) := by
  subst hL
  have hs : spC.size = 76 := by kernel_rfl
  have h1 : spC.all (·.oneCell') = true := by kernel_rfl
  have := run_storeCells_from (P := Tryz.prog) g 30 spC.toList 0 Z w hg (by simp; omega) (fun v hv => (Array.all_eq_true_iff_forall_mem.1 h1) v (by simpa using hv))
  simpa using this
theorem got_spans (w : World) (g : Nat) (hg : w.heap[g]? = some (.cells spC 30 (0, 0))) : (loadVar 30 ⟨g, 0, none⟩).run Tryz.prog w = .ok (.agg spC) w :=
  run_loadVar_row w g 30 30 spC (0, 0) _ hg Tryz.underlying30 rfl (by kernel_rfl)
set_option maxRecDepth 100000 in
set_option maxHeartbeats 4000000 in
theorem cspans (w : World) : Calls Tryz.prog 7 #[] w fun e w' => e = .returned (.agg spC) ∧ Ext w w' := by
  have HS := Lib.hid (fun (f t n : Int) w => cseq f t n w)
  go_enter Tryz.func7, Tryz.ntmps7
  go_wp2_with (go_at_call 16; refine (HS.out _ _ _ _).mono ?_; first
    | (rintro e w1 ⟨rfl, hb1⟩; have hC' := hC.trans hb1; clear hC hb1; have hC := hC'; clear hC')
    | rintro e w1 ⟨rfl, hC⟩)
  have hX := ((Ext.refl w).alloc _).trans hC
  have hg := (hC.block w.heap.size (by simp)).trans (heap_alloc_new w _)
  rw [put_spans _ w.heap.size _ (by simp) hg _ (by kernel_rfl)]
  have hg2 := setRow_heap w1 w.heap.size _ spC _ _ hg
  have hX2 : Ext w (w1.setRow w.heap.size spC) := ⟨hX.os, hX.tape, hX.output, by rw [size_setRow]; exact hX.size, fun k hk => (setRow_other w1 w.heap.size k spC (by omega)).trans (hX.block k hk)⟩
  simp only [Result.andThen]
  rw [Oper.upon_skip]
  clear hC hX hg HS
  generalize w1.setRow w.heap.size spC = w2 at hg2 hX2 ⊢
  go_wp2
  refine bodyPost_ret (v := .agg spC) ?_ rfl ⟨rfl, hX2⟩
  exact results_cell_row rfl _ _ _ _ _ _ _ rfl hg2 Tryz.underlying30 rfl (by kernel_rfl)
end Go.Proofs.YtmfafdgmggcoiaaGreatDoor
