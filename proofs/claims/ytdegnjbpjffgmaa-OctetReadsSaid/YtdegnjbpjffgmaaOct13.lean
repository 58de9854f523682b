/-
  The law's 'do': the program's and the document's answer, of one thing read.
-/
import Derived.Test.YtdegnjbpjffgmaaOct12
import Derived.Deep.RegionHeld3
namespace Go.Proofs.Ytdegnjbpjffgmaa
open Go.ChangeShapes Go.WideShapes Go.ChangeAt Go.RowKit
set_option linter.unusedSimpArgs false
set_option linter.unusedVariables false

theorem set5 {w : World} {k : Nat} {T : TypeId} {x0 x1 x2 x3 x4 : Value} (h : w.heap[k]? = some (.cells #[x0, x1, x2, x3, x4] T (0, 0))) (a b c d e : Value) :
    (((((w.setCell ⟨k, 0, none⟩ a).setCell ⟨k, 1, none⟩ b).setCell ⟨k, 2, none⟩ c).setCell ⟨k, 3, none⟩ d).setCell ⟨k, 4, none⟩ e).heap[k]? = some (.cells #[a, b, c, d, e] T (0, 0)) := by
  simp [World.setCell, Array.getElem?_modify, h]
theorem Rdr.setFar {w : World} {b : Nat} {t : ByteArray} {r : Nat} {ba er pl : Int} (h : Rdr w b t r ba er pl) {p : Addr} (hp : b ≠ p.block) (u : Value) : Rdr (w.setCell p u) b t r ba er pl :=
  ⟨(Below.heap_setCell _ _ _ _ hp).trans h.here, h.le, h.small, h.lo, h.hi⟩
theorem Mod.setNew {g : Nat} {a w : World} (h : Mod g a w) {p : Addr} (hp : a.heap.size ≤ p.block) (u : Value) : Mod g a (w.setCell p u) :=
  ⟨h.os, h.tape, h.output, by simpa [World.setCell] using h.size, fun i hi hne => (Below.heap_setCell w p u i (by omega)).trans (h.block i hi hne)⟩
/-- What 'do' has made when the two answers are held against each other. -/
structure DoW (w0 W : World) (b k5 k6 k8 : Nat) (t : ByteArray) (r : Nat) (ba er pl : Int) (k n c : Int) (s : ByteArray) (m8 : Array Value) : Prop where
  rd : Rdr W b t r ba er pl
  h5 : W.heap[k5]? = some (.cells #[.int .i64 k, .int .i64 n, .int .i64 c, .string s] 45 (0, 0))
  h6 : W.heap[k6]? = some (.cells #[.string ⟨#[]⟩, .int .i64 0, .int .i64 0, .int .i64 0, .int .i64 0] 43 (0, 0))
  h8 : W.heap[k8]? = some (.cells m8 43 (0, 0))
  md : Mod b w0 W
  b0 : b < w0.heap.size
  l5 : w0.heap.size ≤ k5
  l6 : w0.heap.size ≤ k6
  l8 : w0.heap.size ≤ k8
  n68 : k6 ≠ k8
  n56 : k5 ≠ k6
theorem DoW.mod {w0 W W2 : World} {b k5 k6 k8 : Nat} {t : ByteArray} {r r' : Nat} {ba er er' pl pl' k n c : Int} {s : ByteArray} {m8 : Array Value}
    (h : DoW w0 W b k5 k6 k8 t r ba er pl k n c s m8) (hm : Mod b W W2) (hr : Rdr W2 b t r' ba er' pl') : DoW w0 W2 b k5 k6 k8 t r' ba er' pl' k n c s m8 := by
  have hb := h.b0
  have h5 := h.l5
  have h6 := h.l6
  have h8 := h.l8
  exact ⟨hr, (hm.block _ (lt_of_block h.h5) (by simp; omega)).trans h.h5, (hm.block _ (lt_of_block h.h6) (by simp; omega)).trans h.h6, (hm.block _ (lt_of_block h.h8) (by simp; omega)).trans h.h8, h.md.trans hm, h.b0, h.l5, h.l6, h.l8, h.n68, h.n56⟩
theorem DoW.ext {w0 W W2 : World} {b k5 k6 k8 : Nat} {t : ByteArray} {r : Nat} {ba er pl k n c : Int} {s : ByteArray} {m8 : Array Value}
    (h : DoW w0 W b k5 k6 k8 t r ba er pl k n c s m8) (hx : Ext W W2) : DoW w0 W2 b k5 k6 k8 t r ba er pl k n c s m8 := h.mod (Mod.of hx) (h.rd.ext hx)
theorem DoW.drew {w0 W : World} {b k5 k6 k8 : Nat} {t : ByteArray} {r : Nat} {ba er pl k n c : Int} {s : ByteArray} {m8 : Array Value}
    (h : DoW w0 W b k5 k6 k8 t r ba er pl k n c s m8) : DoW w0 W.drew b k5 k6 k8 t r ba er pl k n c s m8 := h.ext ((Ext.refl _).drew)
theorem DoW.made {w0 w1 : World} {b : Nat} {t : ByteArray} {r : Nat} {ba er pl k n c : Int} {s : ByteArray} (m8 : Array Value) (H : Rdr w0 b t r ba er pl)
    (hb1 : Ext (((w0.alloc (rino t r ba er pl)).alloc (.cells #[.int .i64 k, .int .i64 n, .int .i64 c, .string s] 45)).alloc (.cells #[.string ⟨#[]⟩, .int .i64 0, .int .i64 0, .int .i64 0, .int .i64 0] 43)) w1) :
    DoW w0 (w1.alloc (.cells m8 43)) b (w0.heap.size + 1) (w0.heap.size + 1 + 1) w1.heap.size t r ba er pl k n c s m8 := by
  have e1 : Ext w0 w1 := Ext.trans ((((Ext.refl _).alloc _).alloc _).alloc _) hb1
  have hs := hb1.size
  simp at hs
  have hb := H.lt
  refine ⟨H.ext (e1.alloc _), ?_, ?_, heap_alloc_new _ _, Mod.of (e1.alloc _), H.lt, by omega, by omega, by omega, by omega, by omega⟩
  · rw [Below.heap_alloc _ _ _ (by omega), hb1.block _ (by simp), Below.heap_alloc _ _ _ (by simp)]
    have := heap_alloc_new (w0.alloc (rino t r ba er pl)) (.cells #[.int .i64 k, .int .i64 n, .int .i64 c, .string s] 45)
    simpa using this
  · rw [Below.heap_alloc _ _ _ (by omega), hb1.block _ (by simp)]
    have := heap_alloc_new ((w0.alloc (rino t r ba er pl)).alloc (.cells #[.int .i64 k, .int .i64 n, .int .i64 c, .string s] 45)) (.cells #[.string ⟨#[]⟩, .int .i64 0, .int .i64 0, .int .i64 0, .int .i64 0] 43)
    simpa using this
theorem DoW.finish {w0 W : World} {b k5 k6 k8 : Nat} {t : ByteArray} {r : Nat} {ba er pl k n c : Int} {s : ByteArray} {m8 : Array Value}
    (h : DoW w0 W b k5 k6 k8 t r ba er pl k n c s m8) (v0 v1 v2 v3 v4 : Value) :
    Mod b w0 (((((W.setCell ⟨k6, 0, none⟩ v0).setCell ⟨k6, 1, none⟩ v1).setCell ⟨k6, 2, none⟩ v2).setCell ⟨k6, 3, none⟩ v3).setCell ⟨k6, 4, none⟩ v4) ∧
    Rdr (((((W.setCell ⟨k6, 0, none⟩ v0).setCell ⟨k6, 1, none⟩ v1).setCell ⟨k6, 2, none⟩ v2).setCell ⟨k6, 3, none⟩ v3).setCell ⟨k6, 4, none⟩ v4) b t r ba er pl := by
  have hb := h.b0
  have h6 := h.l6
  have hne : b ≠ k6 := by omega
  exact ⟨((((h.md.setNew h6 _).setNew h6 _).setNew h6 _).setNew h6 _).setNew h6 _, ((((h.rd.setFar hne _).setFar hne _).setFar hne _).setFar hne _).setFar hne _⟩
theorem opcells {w : World} {b : Nat} {c0 c1 c2 c3 : Value} {T : TypeId} (h : w.heap[b]? = some (.cells #[c0, c1, c2, c3] T (0, 0))) :
    w.cell? ⟨b, 0, none⟩ = some c0 ∧ w.cell? ⟨b, 1, none⟩ = some c1 ∧ w.cell? ⟨b, 2, none⟩ = some c2 ∧ w.cell? ⟨b, 3, none⟩ = some c3 := by
  simp [World.cell?, h]
/-- Something read, as a value. -/
abbrev opv (k n c : Int) (s : ByteArray) : Value := .agg #[.int .i64 k, .int .i64 n, .int .i64 c, .string s]
/-- What 'do' comes to: both of one mind, the reader is as the document's. -/
def DoEnd (w : World) (b : Nat) (t : ByteArray) (ba : Int) (e : Ending) (w' : World) : Prop :=
  Mod b w w' ∧ ∃ (r' : Nat) (er' pl' : Int), e = .returned (.tuple #[rin t r' ba er' pl', .bool true]) ∧ Rdr w' b t r' ba er' pl'
set_option maxRecDepth 100000 in
set_option maxHeartbeats 1000000 in
theorem do0 (w : World) (b : Nat) (t : ByteArray) (r q : Nat) (ba er pl er' pl' n c : Int) (s : ByteArray) (H : Rdr w b t r ba er pl) (u : ByteArray)
    (T1 : ∀ w, Calls Try.prog 38 #[rin t r ba er pl, .int .i64 n] w fun e w' => e = .returned (.tuple #[rin t q ba er' pl', .string u]) ∧ Ext w w')
    (T2 : ∀ w, Rdr w b t r ba er pl → Calls Try.prog 32 #[.pointer (some ⟨b, 0, none⟩), .int .i64 n] w fun e w' => e = .returned (.string u) ∧ Rdr w' b t q ba er' pl' ∧ Mod b w w') :
    Calls Try.prog 26 #[.pointer (some ⟨b, 0, none⟩), rin t r ba er pl, opv 0 n c s] w (DoEnd w b t ba) := by
  have X1 := Lib.hid T1
  have X2 := Lib.hid T2
  clear T1 T2
  go_enter Try.func26, Try.ntmps26
  go_wp2_with (go_at_call 38; refine (X1.out _).mono ?_; rintro e w1 ⟨rfl, hb1⟩)
  obtain ⟨W, hW⟩ : ∃ W, W = w1.alloc (rino t q ba er' pl') := ⟨_, rfl⟩
  have hD := DoW.made #[.string t, .int .i64 q, .int .i64 ba, .int .i64 er', .int .i64 pl'] H hb1
  rw [← hW] at hD
  rw [← hW]
  generalize w1.heap.size = k8 at hD ⊢
  generalize w.heap.size + 1 + 1 = k6 at hD ⊢
  generalize w.heap.size + 1 = k5 at hD ⊢
  clear hW hb1
  obtain ⟨a0, a1, a2, a3, a4⟩ := cells_of hD.h8
  obtain ⟨p0, p1, p2, p3⟩ := opcells hD.h5
  clear p0 p2 p3
  go_region_held3 (fun W' => W'.cell? ⟨k8, 0, none⟩ = some (.string t) ∧ W'.cell? ⟨k8, 1, none⟩ = some (.int .i64 q) ∧ W'.cell? ⟨k8, 2, none⟩ = some (.int .i64 ba) ∧ W'.cell? ⟨k8, 3, none⟩ = some (.int .i64 er') ∧ W'.cell? ⟨k8, 4, none⟩ = some (.int .i64 pl') ∧ W'.cell? ⟨k5, 1, none⟩ = some (.int .i64 n)) (go_keep)
    (first | (go_at_call 32; refine (X2.out _ hD.rd.drew).mono ?_; rintro e w2 ⟨rfl, H2, m2⟩; have hD2 := hD.drew.mod m2 H2; obtain ⟨q0, q1, q2, q3, q4⟩ := cells_of hD2.h8; obtain ⟨o0, o1, o2, o3⟩ := opcells hD2.h5; obtain ⟨z0, z1, z2, z3, z4⟩ := cells_of hD2.h6; have f0 := free_of hD2.h6 0; have f1 := free_of hD2.h6 1; have f2 := free_of hD2.h6 2; have f3 := free_of hD2.h6 3; have f4 := free_of hD2.h6 4; have n68 := hD2.n68; have n56 := Ne.symm hD2.n56; clear o0 o2 o3))
  go_wp2
  obtain ⟨g1, g2⟩ := hD2.finish (.string t) (.int .i64 q) (.int .i64 ba) (.int .i64 er') (.int .i64 pl')
  refine bodyPost_ret (v := .tuple #[rin t q ba er' pl', .bool true]) (by simp [results, Try.results26, go_sem, z0, z1, z2, z3, z4]) rfl ⟨g1, _, _, _, rfl, g2⟩
set_option maxRecDepth 100000 in
set_option maxHeartbeats 1000000 in
theorem do5 (w : World) (b : Nat) (t : ByteArray) (r q : Nat) (ba er pl er' pl' n c : Int) (s : ByteArray) (H : Rdr w b t r ba er pl) (u : Int)
    (T1 : ∀ w, Calls Try.prog 41 #[rin t r ba er pl] w fun e w' => e = .returned (.tuple #[rin t q ba er' pl', .int .i64 u]) ∧ Ext w w')
    (T2 : ∀ w, Rdr w b t r ba er pl → Calls Try.prog 24 #[.pointer (some ⟨b, 0, none⟩)] w fun e w' => e = .returned (.int .i64 u) ∧ Rdr w' b t q ba er' pl' ∧ Mod b w w') :
    Calls Try.prog 26 #[.pointer (some ⟨b, 0, none⟩), rin t r ba er pl, opv 5 n c s] w (DoEnd w b t ba) := by
  have X1 := Lib.hid T1
  have X2 := Lib.hid T2
  clear T1 T2
  go_enter Try.func26, Try.ntmps26
  go_wp2_with (go_at_call 41; refine (X1.out _).mono ?_; rintro e w1 ⟨rfl, hb1⟩)
  obtain ⟨W, hW⟩ : ∃ W, W = w1.alloc (rino t q ba er' pl') := ⟨_, rfl⟩
  have hD := DoW.made #[.string t, .int .i64 q, .int .i64 ba, .int .i64 er', .int .i64 pl'] H hb1
  rw [← hW] at hD
  rw [← hW]
  generalize w1.heap.size = k8 at hD ⊢
  generalize w.heap.size + 1 + 1 = k6 at hD ⊢
  generalize w.heap.size + 1 = k5 at hD ⊢
  clear hW hb1
  obtain ⟨a0, a1, a2, a3, a4⟩ := cells_of hD.h8
  obtain ⟨p0, p1, p2, p3⟩ := opcells hD.h5
  clear p0 p1 p2 p3
  go_region_held3 (fun W' => W'.cell? ⟨k8, 0, none⟩ = some (.string t) ∧ W'.cell? ⟨k8, 1, none⟩ = some (.int .i64 q) ∧ W'.cell? ⟨k8, 2, none⟩ = some (.int .i64 ba) ∧ W'.cell? ⟨k8, 3, none⟩ = some (.int .i64 er') ∧ W'.cell? ⟨k8, 4, none⟩ = some (.int .i64 pl')) (go_keep)
    (first | (go_at_call 24; refine (X2.out _ hD.rd.drew).mono ?_; rintro e w2 ⟨rfl, H2, m2⟩; have hD2 := hD.drew.mod m2 H2; obtain ⟨q0, q1, q2, q3, q4⟩ := cells_of hD2.h8; obtain ⟨o0, o1, o2, o3⟩ := opcells hD2.h5; obtain ⟨z0, z1, z2, z3, z4⟩ := cells_of hD2.h6; have f0 := free_of hD2.h6 0; have f1 := free_of hD2.h6 1; have f2 := free_of hD2.h6 2; have f3 := free_of hD2.h6 3; have f4 := free_of hD2.h6 4; have n68 := hD2.n68; have n56 := Ne.symm hD2.n56; clear o0 o1 o2 o3))
  go_wp2
  obtain ⟨g1, g2⟩ := hD2.finish (.string t) (.int .i64 q) (.int .i64 ba) (.int .i64 er') (.int .i64 pl')
  refine bodyPost_ret (v := .tuple #[rin t q ba er' pl', .bool true]) (by simp [results, Try.results26, go_sem, z0, z1, z2, z3, z4]) rfl ⟨g1, _, _, _, rfl, g2⟩
set_option maxRecDepth 100000 in
set_option maxHeartbeats 1000000 in
theorem do6 (w : World) (b : Nat) (t : ByteArray) (r q : Nat) (ba er pl er' pl' n c : Int) (s : ByteArray) (H : Rdr w b t r ba er pl) (u : Bool)
    (T1 : ∀ w, Calls Try.prog 42 #[rin t r ba er pl, .string s] w fun e w' => e = .returned (.tuple #[rin t q ba er' pl', .bool u]) ∧ Ext w w')
    (T2 : ∀ w, Rdr w b t r ba er pl → Calls Try.prog 30 #[.pointer (some ⟨b, 0, none⟩), .string s] w fun e w' => e = .returned (.bool u) ∧ Rdr w' b t q ba er' pl' ∧ Mod b w w') :
    Calls Try.prog 26 #[.pointer (some ⟨b, 0, none⟩), rin t r ba er pl, opv 6 n c s] w (DoEnd w b t ba) := by
  have X1 := Lib.hid T1
  have X2 := Lib.hid T2
  clear T1 T2
  go_enter Try.func26, Try.ntmps26
  go_wp2_with (go_at_call 42; refine (X1.out _).mono ?_; rintro e w1 ⟨rfl, hb1⟩)
  obtain ⟨W, hW⟩ : ∃ W, W = w1.alloc (rino t q ba er' pl') := ⟨_, rfl⟩
  have hD := DoW.made #[.string t, .int .i64 q, .int .i64 ba, .int .i64 er', .int .i64 pl'] H hb1
  rw [← hW] at hD
  rw [← hW]
  generalize w1.heap.size = k8 at hD ⊢
  generalize w.heap.size + 1 + 1 = k6 at hD ⊢
  generalize w.heap.size + 1 = k5 at hD ⊢
  clear hW hb1
  obtain ⟨a0, a1, a2, a3, a4⟩ := cells_of hD.h8
  obtain ⟨p0, p1, p2, p3⟩ := opcells hD.h5
  clear p0 p1 p2
  go_region_held3 (fun W' => W'.cell? ⟨k8, 0, none⟩ = some (.string t) ∧ W'.cell? ⟨k8, 1, none⟩ = some (.int .i64 q) ∧ W'.cell? ⟨k8, 2, none⟩ = some (.int .i64 ba) ∧ W'.cell? ⟨k8, 3, none⟩ = some (.int .i64 er') ∧ W'.cell? ⟨k8, 4, none⟩ = some (.int .i64 pl') ∧ W'.cell? ⟨k5, 3, none⟩ = some (.string s)) (go_keep)
    (first | (go_at_call 30; refine (X2.out _ hD.rd.drew).mono ?_; rintro e w2 ⟨rfl, H2, m2⟩; have hD2 := hD.drew.mod m2 H2; obtain ⟨q0, q1, q2, q3, q4⟩ := cells_of hD2.h8; obtain ⟨o0, o1, o2, o3⟩ := opcells hD2.h5; obtain ⟨z0, z1, z2, z3, z4⟩ := cells_of hD2.h6; have f0 := free_of hD2.h6 0; have f1 := free_of hD2.h6 1; have f2 := free_of hD2.h6 2; have f3 := free_of hD2.h6 3; have f4 := free_of hD2.h6 4; have n68 := hD2.n68; have n56 := Ne.symm hD2.n56; clear o0 o1 o2))
  go_wp2
  obtain ⟨g1, g2⟩ := hD2.finish (.string t) (.int .i64 q) (.int .i64 ba) (.int .i64 er') (.int .i64 pl')
  refine bodyPost_ret (v := .tuple #[rin t q ba er' pl', .bool true]) (by simp [results, Try.results26, go_sem, z0, z1, z2, z3, z4]) rfl ⟨g1, _, _, _, rfl, g2⟩
set_option maxRecDepth 100000 in
set_option maxHeartbeats 1000000 in
theorem do7 (w : World) (b : Nat) (t : ByteArray) (r q : Nat) (ba er pl er' pl' n c : Int) (s : ByteArray) (H : Rdr w b t r ba er pl) (u : ByteArray)
    (T1 : ∀ w, Calls Try.prog 43 #[rin t r ba er pl, .string s] w fun e w' => e = .returned (.tuple #[rin t q ba er' pl', .string u]) ∧ Ext w w')
    (T2 : ∀ w, Rdr w b t r ba er pl → Calls Try.prog 35 #[.pointer (some ⟨b, 0, none⟩), .string s] w fun e w' => e = .returned (.string u) ∧ Rdr w' b t q ba er' pl' ∧ Mod b w w') :
    Calls Try.prog 26 #[.pointer (some ⟨b, 0, none⟩), rin t r ba er pl, opv 7 n c s] w (DoEnd w b t ba) := by
  have X1 := Lib.hid T1
  have X2 := Lib.hid T2
  clear T1 T2
  go_enter Try.func26, Try.ntmps26
  go_wp2_with (go_at_call 43; refine (X1.out _).mono ?_; rintro e w1 ⟨rfl, hb1⟩)
  obtain ⟨W, hW⟩ : ∃ W, W = w1.alloc (rino t q ba er' pl') := ⟨_, rfl⟩
  have hD := DoW.made #[.string t, .int .i64 q, .int .i64 ba, .int .i64 er', .int .i64 pl'] H hb1
  rw [← hW] at hD
  rw [← hW]
  generalize w1.heap.size = k8 at hD ⊢
  generalize w.heap.size + 1 + 1 = k6 at hD ⊢
  generalize w.heap.size + 1 = k5 at hD ⊢
  clear hW hb1
  obtain ⟨a0, a1, a2, a3, a4⟩ := cells_of hD.h8
  obtain ⟨p0, p1, p2, p3⟩ := opcells hD.h5
  clear p0 p1 p2
  go_region_held3 (fun W' => W'.cell? ⟨k8, 0, none⟩ = some (.string t) ∧ W'.cell? ⟨k8, 1, none⟩ = some (.int .i64 q) ∧ W'.cell? ⟨k8, 2, none⟩ = some (.int .i64 ba) ∧ W'.cell? ⟨k8, 3, none⟩ = some (.int .i64 er') ∧ W'.cell? ⟨k8, 4, none⟩ = some (.int .i64 pl') ∧ W'.cell? ⟨k5, 3, none⟩ = some (.string s)) (go_keep)
    (first | (go_at_call 35; refine (X2.out _ hD.rd.drew).mono ?_; rintro e w2 ⟨rfl, H2, m2⟩; have hD2 := hD.drew.mod m2 H2; obtain ⟨q0, q1, q2, q3, q4⟩ := cells_of hD2.h8; obtain ⟨o0, o1, o2, o3⟩ := opcells hD2.h5; obtain ⟨z0, z1, z2, z3, z4⟩ := cells_of hD2.h6; have f0 := free_of hD2.h6 0; have f1 := free_of hD2.h6 1; have f2 := free_of hD2.h6 2; have f3 := free_of hD2.h6 3; have f4 := free_of hD2.h6 4; have n68 := hD2.n68; have n56 := Ne.symm hD2.n56; clear o0 o1 o2))
  go_wp2
  obtain ⟨g1, g2⟩ := hD2.finish (.string t) (.int .i64 q) (.int .i64 ba) (.int .i64 er') (.int .i64 pl')
  refine bodyPost_ret (v := .tuple #[rin t q ba er' pl', .bool true]) (by simp [results, Try.results26, go_sem, z0, z1, z2, z3, z4]) rfl ⟨g1, _, _, _, rfl, g2⟩
end Go.Proofs.Ytdegnjbpjffgmaa
