/-
  The law's 'do' (2): Rest, Peek, Big, Small, Fail, and what is none of them.
-/
import Derived.Test.YtdegnjbpjffgmaaOct13
namespace Go.Proofs.Ytdegnjbpjffgmaa
open Go.ChangeShapes Go.WideShapes Go.ChangeAt Go.RowKit
set_option linter.unusedSimpArgs false
set_option linter.unusedVariables false

/-- What 'do' has made at its beginning. -/
structure DoS (w0 W : World) (b k4 k5 k6 : Nat) (t : ByteArray) (r : Nat) (ba er pl : Int) (k n c : Int) (s : ByteArray) (m4 : Array Value) : Prop where
  rd : Rdr W b t r ba er pl
  h4 : W.heap[k4]? = some (.cells m4 43 (0, 0))
  h5 : W.heap[k5]? = some (.cells #[.int .i64 k, .int .i64 n, .int .i64 c, .string s] 45 (0, 0))
  h6 : W.heap[k6]? = some (.cells #[.string ⟨#[]⟩, .int .i64 0, .int .i64 0, .int .i64 0, .int .i64 0] 43 (0, 0))
  md : Mod b w0 W
  b0 : b < w0.heap.size
  l4 : w0.heap.size ≤ k4
  l5 : w0.heap.size ≤ k5
  l6 : w0.heap.size ≤ k6
  n64 : k6 ≠ k4
  n65 : k6 ≠ k5
theorem DoS.mod {w0 W W2 : World} {b k4 k5 k6 : Nat} {t : ByteArray} {r r' : Nat} {ba er er' pl pl' k n c : Int} {s : ByteArray} {m4 : Array Value}
    (h : DoS w0 W b k4 k5 k6 t r ba er pl k n c s m4) (hm : Mod b W W2) (hr : Rdr W2 b t r' ba er' pl') : DoS w0 W2 b k4 k5 k6 t r' ba er' pl' k n c s m4 := by
  have hb := h.b0
  have h4 := h.l4
  have h5 := h.l5
  have h6 := h.l6
  exact ⟨hr, (hm.block _ (lt_of_block h.h4) (by simp; omega)).trans h.h4, (hm.block _ (lt_of_block h.h5) (by simp; omega)).trans h.h5, (hm.block _ (lt_of_block h.h6) (by simp; omega)).trans h.h6, h.md.trans hm, h.b0, h.l4, h.l5, h.l6, h.n64, h.n65⟩
theorem DoS.ext {w0 W W2 : World} {b k4 k5 k6 : Nat} {t : ByteArray} {r : Nat} {ba er pl k n c : Int} {s : ByteArray} {m4 : Array Value}
    (h : DoS w0 W b k4 k5 k6 t r ba er pl k n c s m4) (hx : Ext W W2) : DoS w0 W2 b k4 k5 k6 t r ba er pl k n c s m4 := h.mod (Mod.of hx) (h.rd.ext hx)
theorem DoS.drew {w0 W : World} {b k4 k5 k6 : Nat} {t : ByteArray} {r : Nat} {ba er pl k n c : Int} {s : ByteArray} {m4 : Array Value}
    (h : DoS w0 W b k4 k5 k6 t r ba er pl k n c s m4) : DoS w0 W.drew b k4 k5 k6 t r ba er pl k n c s m4 := h.ext ((Ext.refl _).drew)
theorem DoS.made {w0 : World} {b : Nat} {t : ByteArray} {r : Nat} {ba er pl k n c : Int} {s : ByteArray} (H : Rdr w0 b t r ba er pl) :
    DoS w0 (((w0.alloc (rino t r ba er pl)).alloc (.cells #[.int .i64 k, .int .i64 n, .int .i64 c, .string s] 45)).alloc (.cells #[.string ⟨#[]⟩, .int .i64 0, .int .i64 0, .int .i64 0, .int .i64 0] 43)) b w0.heap.size (w0.heap.size + 1) (w0.heap.size + 1 + 1) t r ba er pl k n c s #[.string t, .int .i64 r, .int .i64 ba, .int .i64 er, .int .i64 pl] := by
  have hb := H.lt
  have e1 : Ext w0 (((w0.alloc (rino t r ba er pl)).alloc (.cells #[.int .i64 k, .int .i64 n, .int .i64 c, .string s] 45)).alloc (.cells #[.string ⟨#[]⟩, .int .i64 0, .int .i64 0, .int .i64 0, .int .i64 0] 43)) := (((Ext.refl _).alloc _).alloc _).alloc _
  refine ⟨H.ext e1, ?_, ?_, ?_, Mod.of e1, H.lt, by omega, by omega, by omega, by omega, by omega⟩
  · rw [Below.heap_alloc _ _ _ (by simp; omega), Below.heap_alloc _ _ _ (by simp)]
    exact heap_alloc_new w0 _
  · rw [Below.heap_alloc _ _ _ (by simp)]
    have := heap_alloc_new (w0.alloc (rino t r ba er pl)) (.cells #[.int .i64 k, .int .i64 n, .int .i64 c, .string s] 45)
    simpa using this
  · have := heap_alloc_new ((w0.alloc (rino t r ba er pl)).alloc (.cells #[.int .i64 k, .int .i64 n, .int .i64 c, .string s] 45)) (.cells #[.string ⟨#[]⟩, .int .i64 0, .int .i64 0, .int .i64 0, .int .i64 0] 43)
    simpa using this
theorem DoS.toW {w0 W : World} {b k4 k5 k6 : Nat} {t : ByteArray} {r : Nat} {ba er pl k n c : Int} {s : ByteArray} {m4 : Array Value}
    (h : DoS w0 W b k4 k5 k6 t r ba er pl k n c s m4) (m8 : Array Value) : DoW w0 (W.alloc (.cells m8 43)) b k5 k6 W.heap.size t r ba er pl k n c s m8 := by
  have h6 := lt_of_block h.h6
  have h5 := lt_of_block h.h5
  exact ⟨h.rd.ext ((Ext.refl _).alloc _), (Below.heap_alloc _ _ _ h5).trans h.h5, (Below.heap_alloc _ _ _ h6).trans h.h6, heap_alloc_new _ _, h.md.alloc _, h.b0, h.l5, h.l6, by have := h.md.size; have := h.b0; omega, by omega, Ne.symm h.n65⟩
theorem DoS.setW {w0 W : World} {b k4 k5 k6 k8 : Nat} {t : ByteArray} {r : Nat} {ba er pl k n c : Int} {s : ByteArray} {m4 : Array Value}
    (h : DoS w0 W b k4 k5 k6 t r ba er pl k n c s m4) {x0 x1 x2 x3 x4 : Value} (h8 : W.heap[k8]? = some (.cells #[x0, x1, x2, x3, x4] 43 (0, 0))) (l8 : w0.heap.size ≤ k8) (n58 : k5 < k8) (n68 : k6 < k8) (v0 v1 v2 v3 v4 : Value) :
    DoW w0 (((((W.setCell ⟨k8, 0, none⟩ v0).setCell ⟨k8, 1, none⟩ v1).setCell ⟨k8, 2, none⟩ v2).setCell ⟨k8, 3, none⟩ v3).setCell ⟨k8, 4, none⟩ v4) b k5 k6 k8 t r ba er pl k n c s #[v0, v1, v2, v3, v4] := by
  have hb := h.b0
  have hne : b ≠ k8 := by omega
  have n5 : k5 ≠ k8 := by omega
  have n6 : k6 ≠ k8 := by omega
  have far : ∀ (w : World) (p : Nat) (o : Nat) (v : Value), p ≠ k8 → (w.setCell ⟨k8, o, none⟩ v).heap[p]? = w.heap[p]? := fun w p o v hp => Below.heap_setCell _ _ _ _ hp
  refine ⟨((((h.rd.setFar hne _).setFar hne _).setFar hne _).setFar hne _).setFar hne _, ?_, ?_, set5 h8 _ _ _ _ _, ((((h.md.setNew l8 _).setNew l8 _).setNew l8 _).setNew l8 _).setNew l8 _, h.b0, h.l5, h.l6, l8, by omega, Ne.symm h.n65⟩
  · rw [far _ _ _ _ n5, far _ _ _ _ n5, far _ _ _ _ n5, far _ _ _ _ n5, far _ _ _ _ n5]; exact h.h5
  · rw [far _ _ _ _ n6, far _ _ _ _ n6, far _ _ _ _ n6, far _ _ _ _ n6, far _ _ _ _ n6]; exact h.h6
theorem DoS.finish {w0 W : World} {b k4 k5 k6 : Nat} {t : ByteArray} {r : Nat} {ba er pl k n c : Int} {s : ByteArray} {m4 : Array Value}
    (h : DoS w0 W b k4 k5 k6 t r ba er pl k n c s m4) (v0 v1 v2 v3 v4 : Value) :
    Mod b w0 (((((W.setCell ⟨k6, 0, none⟩ v0).setCell ⟨k6, 1, none⟩ v1).setCell ⟨k6, 2, none⟩ v2).setCell ⟨k6, 3, none⟩ v3).setCell ⟨k6, 4, none⟩ v4) ∧
    Rdr (((((W.setCell ⟨k6, 0, none⟩ v0).setCell ⟨k6, 1, none⟩ v1).setCell ⟨k6, 2, none⟩ v2).setCell ⟨k6, 3, none⟩ v3).setCell ⟨k6, 4, none⟩ v4) b t r ba er pl := by
  have hb := h.b0
  have h6 := h.l6
  have hne : b ≠ k6 := by omega
  exact ⟨((((h.md.setNew h6 _).setNew h6 _).setNew h6 _).setNew h6 _).setNew h6 _, ((((h.rd.setFar hne _).setFar hne _).setFar hne _).setFar hne _).setFar hne _⟩
set_option maxRecDepth 100000 in
set_option maxHeartbeats 1000000 in
theorem do9 (w : World) (b : Nat) (t : ByteArray) (r : Nat) (ba er pl k n c : Int) (s : ByteArray) (H : Rdr w b t r ba er pl) (h : k < 0 ∨ 8 < k) :
    Calls Try.prog 26 #[.pointer (some ⟨b, 0, none⟩), rin t r ba er pl, opv k n c s] w (DoEnd w b t ba) := by
  have e0 : (k == 0) = false := by rw [beq_eq_false_iff_ne]; omega
  have e1 : (k == 1) = false := by rw [beq_eq_false_iff_ne]; omega
  have e2 : (k == 2) = false := by rw [beq_eq_false_iff_ne]; omega
  have e3 : (k == 3) = false := by rw [beq_eq_false_iff_ne]; omega
  have e4 : (k == 4) = false := by rw [beq_eq_false_iff_ne]; omega
  have e5 : (k == 5) = false := by rw [beq_eq_false_iff_ne]; omega
  have e6 : (k == 6) = false := by rw [beq_eq_false_iff_ne]; omega
  have e7 : (k == 7) = false := by rw [beq_eq_false_iff_ne]; omega
  have e8 : (k == 8) = false := by rw [beq_eq_false_iff_ne]; omega
  clear h
  go_enter Try.func26, Try.ntmps26
  go_wp2
  refine bodyPost_ret (v := .tuple #[rin t r ba er pl, .bool true]) (by simp [results, Try.results26, go_sem]) rfl ⟨?_, _, _, _, rfl, H.ext ?_⟩
  · exact Mod.of (by repeat (first | exact Ext.refl _ | refine Ext.alloc ?_ _))
  · repeat (first | exact Ext.refl _ | refine Ext.alloc ?_ _)
set_option maxRecDepth 100000 in
set_option maxHeartbeats 1000000 in
theorem do8 (w : World) (b : Nat) (t : ByteArray) (r q : Nat) (ba er pl er' pl' n c : Int) (s : ByteArray) (H : Rdr w b t r ba er pl)
    (T1 : ∀ w, Calls Try.prog 44 #[rin t r ba er pl, .int .i64 c, .int .i64 n] w fun e w' => e = .returned (rin t q ba er' pl') ∧ Ext w w')
    (T2 : ∀ w, Rdr w b t r ba er pl → Calls Try.prog 31 #[.pointer (some ⟨b, 0, none⟩), .int .i64 c, .int .i64 n] w fun e w' => e = .returned (.tuple #[]) ∧ Rdr w' b t q ba er' pl' ∧ Mod b w w') :
    Calls Try.prog 26 #[.pointer (some ⟨b, 0, none⟩), rin t r ba er pl, opv 8 n c s] w (DoEnd w b t ba) := by
  have X1 := Lib.hid T1
  have X2 := Lib.hid T2
  clear T1 T2
  go_enter Try.func26, Try.ntmps26
  go_wp2_with fail
  obtain ⟨W, hW⟩ : ∃ W, W = ((w.alloc (rino t r ba er pl)).alloc (.cells #[.int .i64 8, .int .i64 n, .int .i64 c, .string s] 45)).alloc (.cells #[.string ⟨#[]⟩, .int .i64 0, .int .i64 0, .int .i64 0, .int .i64 0] 43) := ⟨_, rfl⟩
  have hD : DoS w _ b _ _ _ t r ba er pl 8 n c s _ := DoS.made H
  rw [← hW] at hD
  rw [← hW]
  generalize w.heap.size + 1 + 1 = k6 at hD ⊢
  generalize w.heap.size + 1 = k5 at hD ⊢
  obtain ⟨k4, hk4⟩ : ∃ k4, k4 = w.heap.size := ⟨_, rfl⟩
  rw [← hk4] at hD
  rw [← hk4]
  clear hW hk4
  go_wp2_with (first | (go_at_call 31; refine (X2.out _ hD.rd).mono ?_; rintro e w2 ⟨rfl, H2, m2⟩; have hD2 := hD.mod m2 H2; obtain ⟨a0, a1, a2, a3, a4⟩ := cells_of hD2.h4; obtain ⟨o0, o1, o2, o3⟩ := opcells hD2.h5) | (go_at_call 44; refine (X1.out _).mono ?_; rintro e w3 ⟨rfl, hb3⟩; have hD3 := hD2.ext hb3; obtain ⟨z0, z1, z2, z3, z4⟩ := cells_of hD3.h6; have f0 := free_of hD3.h6 0; have f1 := free_of hD3.h6 1; have f2 := free_of hD3.h6 2; have f3 := free_of hD3.h6 3; have f4 := free_of hD3.h6 4))
  obtain ⟨g1, g2⟩ := hD3.finish (.string t) (.int .i64 q) (.int .i64 ba) (.int .i64 er') (.int .i64 pl')
  refine bodyPost_ret (v := .tuple #[rin t q ba er' pl', .bool true]) (by simp [results, Try.results26, go_sem, z0, z1, z2, z3, z4]) rfl ⟨g1, _, _, _, rfl, g2⟩
end Go.Proofs.Ytdegnjbpjffgmaa
