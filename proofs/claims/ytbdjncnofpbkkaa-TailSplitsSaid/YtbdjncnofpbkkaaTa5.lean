/-
  Layer 12: a tail as the document has it.
-/
import Derived.Test.YtbdjncnofpbkkaaTa4
namespace Go.Proofs.Ytbdjncnofpbkkaa
open Go Go.ChangeShapes Go.WideShapes Go.ChangeAt Go.RowKit
set_option linter.unusedSimpArgs false
set_option linter.unusedVariables false

set_option maxRecDepth 100000 in
set_option maxHeartbeats 1000000 in
theorem rof (T : TailZ) (w : World) (h0 : 0 ≤ T.track) (h1 : T.track < 256) (g0 : 0 ≤ T.genre) (g1 : T.genre < 256) : Calls Try.prog 19 #[.agg (tailA T)] w fun e w' => e = .returned (.agg (refA T)) ∧ Ext w w' := by
  have hA := facts7 (heap_alloc_new w (.cells #[.string T.t0, .string T.t1, .string T.t2, .string T.t3, .string T.t4, .int .u8 T.track, .int .u8 T.genre] 31))
  obtain ⟨k0, k1, k2, k3, k4, k5, k6⟩ := hA
  have hw1 : IntKind.i64.wrap T.track = T.track := IntWalk.i64_in _ (by omega)
  have hw2 : IntKind.i64.wrap T.genre = T.genre := IntWalk.i64_in _ (by omega)
  unfold tailA refA
  go_enter Try.func19, Try.ntmps19
  go_wp2
  have hB := heap_alloc_new (w.alloc (.cells #[.string T.t0, .string T.t1, .string T.t2, .string T.t3, .string T.t4, .int .u8 T.track, .int .u8 T.genre] 31)) (.cells #[.string T.t0, .string T.t1, .string T.t2, .string T.t3, .string T.t4, .int .i64 T.track, .int .i64 T.genre] 36)
  rw [show (w.alloc (.cells #[.string T.t0, .string T.t1, .string T.t2, .string T.t3, .string T.t4, .int .u8 T.track, .int .u8 T.genre] 31)).heap.size = w.heap.size + 1 by simp] at hB
  obtain ⟨n0, n1, n2, n3, n4, n5, n6⟩ := facts7 hB
  refine bodyPost_ret (v := .agg #[.string T.t0, .string T.t1, .string T.t2, .string T.t3, .string T.t4, .int .i64 T.track, .int .i64 T.genre]) (by simp [results, Try.results19, go_sem, n0, n1, n2, n3, n4, n5, n6]) rfl ?_
  exact ⟨rfl, ((Ext.refl w).alloc _).alloc _⟩
end Go.Proofs.Ytbdjncnofpbkkaa
