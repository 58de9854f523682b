/-
  The law's 'do' (3): Rest, Peek, Big, Small.
-/
import Derived.Test.YtdegnjbpjffgmaaOct14
namespace Go.Proofs.Ytdegnjbpjffgmaa
open Go.ChangeShapes Go.WideShapes Go.ChangeAt Go.RowKit
set_option linter.unusedSimpArgs false
set_option linter.unusedVariables false

set_option maxRecDepth 100000 in
set_option maxHeartbeats 2000000 in
theorem do1 (w : World) (b : Nat) (t : ByteArray) (r q : Nat) (ba er pl er' pl' n c : Int) (s : ByteArray) (H : Rdr w b t r ba er pl) (u : ByteArray) (v : Int)
    (T0 : ∀ w, Calls Try.prog 27 #[rin t r ba er pl] w fun e w' => e = .returned (.int .i64 v) ∧ Ext w w')
    (T1 : ∀ w, Calls Try.prog 38 #[rin t r ba er pl, .int .i64 v] w fun e w' => e = .returned (.tuple #[rin t q ba er' pl', .string u]) ∧ Ext w w')
    (T2 : ∀ w, Rdr w b t r ba er pl → Calls Try.prog 33 #[.pointer (some ⟨b, 0, none⟩)] w fun e w' => e = .returned (.string u) ∧ Rdr w' b t q ba er' pl' ∧ Mod b w w') :
    Calls Try.prog 26 #[.pointer (some ⟨b, 0, none⟩), rin t r ba er pl, opv 1 n c s] w (DoEnd w b t ba) := by
  have X0 := Lib.hid T0
  have X1 := Lib.hid T1
  have X2 := Lib.hid T2
  clear T0 T1 T2
  have hl8 : ∀ {X : World}, Mod b w X → w.heap.size ≤ X.heap.size := fun h => h.size
  go_enter Try.func26, Try.ntmps26
  go_wp2_with fail
  obtain ⟨W, hW⟩ : ∃ W, W = ((w.alloc (rino t r ba er pl)).alloc (.cells #[.int .i64 1, .int .i64 n, .int .i64 c, .string s] 45)).alloc (.cells #[.string ⟨#[]⟩, .int .i64 0, .int .i64 0, .int .i64 0, .int .i64 0] 43) := ⟨_, rfl⟩
  have hD : DoS w _ b _ _ _ t r ba er pl 1 n c s _ := DoS.made H
  rw [← hW] at hD
  rw [← hW]
  generalize w.heap.size + 1 + 1 = k6 at hD ⊢
  generalize w.heap.size + 1 = k5 at hD ⊢
  obtain ⟨k4, hk4⟩ : ∃ k4, k4 = w.heap.size := ⟨_, rfl⟩
  rw [← hk4] at hD
  rw [← hk4]
  clear hW hk4
  obtain ⟨a0, a1, a2, a3, a4⟩ := cells_of hD.h4
  obtain ⟨p0, p1, p2, p3⟩ := opcells hD.h5
  go_region_held3 (fun W' => W'.cell? ⟨k4, 0, none⟩ = some (.string t) ∧ W'.cell? ⟨k4, 1, none⟩ = some (.int .i64 r) ∧ W'.cell? ⟨k4, 2, none⟩ = some (.int .i64 ba) ∧ W'.cell? ⟨k4, 3, none⟩ = some (.int .i64 er) ∧ W'.cell? ⟨k4, 4, none⟩ = some (.int .i64 pl)) (go_keep)
    (first | (go_at_call 27; refine (X0.out _).mono ?_; rintro e w2 ⟨rfl, hb2⟩; (first | (have hD2 := hD.drew.ext hb2; try (have h8' := (hb2.block _ (lt_of_block h8)).trans h8; clear h8; have h8 := h8'; clear h8'; have c8 := cells_of h8; obtain ⟨y0, y1, y2, y3, y4⟩ := c8; have e0 := free_of h8 0; have e1 := free_of h8 1; have e2 := free_of h8 2; have e3 := free_of h8 3; have e4 := free_of h8 4)) | (have hD2 := (hD.drew.ext ((Ext.refl _).alloc _)).ext hb2; have h8 := (hb2.block _ (by simp)).trans (heap_alloc_new _ _); have l8 := hl8 hD.drew.md; have lk5 := lt_of_block hD.drew.h5; have lk6 := lt_of_block hD.drew.h6; have nk4 : W.heap.size ≠ k4 := (Nat.ne_of_lt (lt_of_block hD.drew.h4)).symm; have nk5 : W.heap.size ≠ k5 := (Nat.ne_of_lt (lt_of_block hD.drew.h5)).symm; have c8 := cells_of h8; obtain ⟨y0, y1, y2, y3, y4⟩ := c8; have e0 := free_of h8 0; have e1 := free_of h8 1; have e2 := free_of h8 2; have e3 := free_of h8 3; have e4 := free_of h8 4)); obtain ⟨q0, q1, q2, q3, q4⟩ := cells_of hD2.h4; obtain ⟨o0, o1, o2, o3⟩ := opcells hD2.h5; clear o0 o1 o2 o3) | (go_at_call 38; refine (X1.out _).mono ?_; rintro e w3 ⟨rfl, hb3⟩; (first | (have hD3 := hD2.ext hb3; try (have h8' := (hb3.block _ (lt_of_block h8)).trans h8; clear h8; have h8 := h8'; clear h8'; have c8 := cells_of h8; obtain ⟨y0, y1, y2, y3, y4⟩ := c8; have e0 := free_of h8 0; have e1 := free_of h8 1; have e2 := free_of h8 2; have e3 := free_of h8 3; have e4 := free_of h8 4)) | (have hD3 := (hD2.ext ((Ext.refl _).alloc _)).ext hb3; have h8 := (hb3.block _ (by simp)).trans (heap_alloc_new _ _); have l8 := hl8 hD2.md; have lk5 := lt_of_block hD2.h5; have lk6 := lt_of_block hD2.h6; have nk4 : w2.heap.size ≠ k4 := (Nat.ne_of_lt (lt_of_block hD2.h4)).symm; have nk5 : w2.heap.size ≠ k5 := (Nat.ne_of_lt (lt_of_block hD2.h5)).symm; have c8 := cells_of h8; obtain ⟨y0, y1, y2, y3, y4⟩ := c8; have e0 := free_of h8 0; have e1 := free_of h8 1; have e2 := free_of h8 2; have e3 := free_of h8 3; have e4 := free_of h8 4)); obtain ⟨q0, q1, q2, q3, q4⟩ := cells_of hD3.h4; obtain ⟨o0, o1, o2, o3⟩ := opcells hD3.h5; clear o0 o1 o2 o3))
  all_goals
    (first | (obtain ⟨Wn, hWn⟩ : ∃ Wn, Wn = w3.alloc (rino t q ba er' pl') := ⟨_, rfl⟩; have hE := hD3.toW #[.string t, .int .i64 q, .int .i64 ba, .int .i64 er', .int .i64 pl']; rw [← hWn] at hE; rw [← hWn]; clear hWn; generalize w3.heap.size = k8 at hE ⊢) | (obtain ⟨k8, hk8⟩ : ∃ k8, k8 = w2.heap.size := ⟨_, rfl⟩; rw [← hk8]; have hE := hD3.setW (k8 := k8) (by rw [hk8]; exact h8) (by rw [hk8]; exact l8) (by rw [hk8]; exact lk5) (by rw [hk8]; exact lk6) (.string t) (.int .i64 q) (.int .i64 ba) (.int .i64 er') (.int .i64 pl'); clear hk8; clear h8; generalize (((((w3.setCell ⟨k8, 0, none⟩ (.string t)).setCell ⟨k8, 1, none⟩ (.int .i64 q)).setCell ⟨k8, 2, none⟩ (.int .i64 ba)).setCell ⟨k8, 3, none⟩ (.int .i64 er')).setCell ⟨k8, 4, none⟩ (.int .i64 pl')) = Wn at hE ⊢) | (obtain ⟨k8, hk8⟩ : ∃ k8, k8 = W.heap.size := ⟨_, rfl⟩; rw [← hk8]; have hE := hD3.setW (k8 := k8) (by rw [hk8]; exact h8) (by rw [hk8]; exact l8) (by rw [hk8]; exact lk5) (by rw [hk8]; exact lk6) (.string t) (.int .i64 q) (.int .i64 ba) (.int .i64 er') (.int .i64 pl'); clear hk8; clear h8; generalize (((((w3.setCell ⟨k8, 0, none⟩ (.string t)).setCell ⟨k8, 1, none⟩ (.int .i64 q)).setCell ⟨k8, 2, none⟩ (.int .i64 ba)).setCell ⟨k8, 3, none⟩ (.int .i64 er')).setCell ⟨k8, 4, none⟩ (.int .i64 pl')) = Wn at hE ⊢))
    go_wp2_with fail
    obtain ⟨i0, i1, i2, i3, i4⟩ := cells_of hE.h8
    obtain ⟨j0, j1, j2, j3⟩ := opcells hE.h5
    go_region_held3 (fun W' => W'.cell? ⟨k8, 0, none⟩ = some (.string t) ∧ W'.cell? ⟨k8, 1, none⟩ = some (.int .i64 q) ∧ W'.cell? ⟨k8, 2, none⟩ = some (.int .i64 ba) ∧ W'.cell? ⟨k8, 3, none⟩ = some (.int .i64 er') ∧ W'.cell? ⟨k8, 4, none⟩ = some (.int .i64 pl')) (go_keep)
      (first | (go_at_call 33; refine (X2.out _ hE.rd.drew).mono ?_; rintro e wf ⟨rfl, HF, mf⟩; have hF := hE.drew.mod mf HF; obtain ⟨s0, s1, s2, s3, s4⟩ := cells_of hF.h8; obtain ⟨v0, v1, v2, v3⟩ := opcells hF.h5; obtain ⟨z0, z1, z2, z3, z4⟩ := cells_of hF.h6; have f0 := free_of hF.h6 0; have f1 := free_of hF.h6 1; have f2 := free_of hF.h6 2; have f3 := free_of hF.h6 3; have f4 := free_of hF.h6 4; have n68 := hF.n68; have n56 := Ne.symm hF.n56))
    all_goals
      go_wp2
      obtain ⟨g1, g2⟩ := hF.finish (.string t) (.int .i64 q) (.int .i64 ba) (.int .i64 er') (.int .i64 pl')
      refine bodyPost_ret (v := .tuple #[rin t q ba er' pl', .bool true]) (by simp [results, Try.results26, go_sem, z0, z1, z2, z3, z4]) rfl ⟨g1, _, _, _, rfl, g2⟩
set_option maxRecDepth 100000 in
set_option maxHeartbeats 2000000 in
theorem do3 (w : World) (b : Nat) (t : ByteArray) (r q : Nat) (ba er pl er' pl' n c : Int) (s : ByteArray) (H : Rdr w b t r ba er pl) (u : ByteArray) (v x : Int)
    (T0 : ∀ w, Calls Try.prog 13 #[.int .i64 n] w fun e w' => e = .returned (.int .i64 v) ∧ w = w')
    (T1 : ∀ w, Calls Try.prog 38 #[rin t r ba er pl, .int .i64 v] w fun e w' => e = .returned (.tuple #[rin t q ba er' pl', .string u]) ∧ Ext w w')
    (T2 : ∀ w, Rdr w b t r ba er pl → Calls Try.prog 17 #[.pointer (some ⟨b, 0, none⟩), .int .i64 n] w fun e w' => e = .returned (.int .u64 x) ∧ Rdr w' b t q ba er' pl' ∧ Mod b w w')
    (T3 : ∀ w, Calls Try.prog 40 #[.string u] w fun e w' => e = .returned (.int .u64 x) ∧ w = w') :
    Calls Try.prog 26 #[.pointer (some ⟨b, 0, none⟩), rin t r ba er pl, opv 3 n c s] w (DoEnd w b t ba) := by
  have X0 := Lib.hid T0
  have X1 := Lib.hid T1
  have X2 := Lib.hid T2
  have X3 := Lib.hid T3
  clear T0 T1 T2 T3
  have hl8 : ∀ {X : World}, Mod b w X → w.heap.size ≤ X.heap.size := fun h => h.size
  go_enter Try.func26, Try.ntmps26
  go_wp2_with fail
  obtain ⟨W, hW⟩ : ∃ W, W = ((w.alloc (rino t r ba er pl)).alloc (.cells #[.int .i64 3, .int .i64 n, .int .i64 c, .string s] 45)).alloc (.cells #[.string ⟨#[]⟩, .int .i64 0, .int .i64 0, .int .i64 0, .int .i64 0] 43) := ⟨_, rfl⟩
  have hD : DoS w _ b _ _ _ t r ba er pl 3 n c s _ := DoS.made H
  rw [← hW] at hD
  rw [← hW]
  generalize w.heap.size + 1 + 1 = k6 at hD ⊢
  generalize w.heap.size + 1 = k5 at hD ⊢
  obtain ⟨k4, hk4⟩ : ∃ k4, k4 = w.heap.size := ⟨_, rfl⟩
  rw [← hk4] at hD
  rw [← hk4]
  clear hW hk4
  obtain ⟨a0, a1, a2, a3, a4⟩ := cells_of hD.h4
  obtain ⟨p0, p1, p2, p3⟩ := opcells hD.h5
  go_region_held3 (fun W' => W'.cell? ⟨k4, 0, none⟩ = some (.string t) ∧ W'.cell? ⟨k4, 1, none⟩ = some (.int .i64 r) ∧ W'.cell? ⟨k4, 2, none⟩ = some (.int .i64 ba) ∧ W'.cell? ⟨k4, 3, none⟩ = some (.int .i64 er) ∧ W'.cell? ⟨k4, 4, none⟩ = some (.int .i64 pl) ∧ W'.cell? ⟨k5, 1, none⟩ = some (.int .i64 n)) (go_keep)
    (first | (go_at_call 13; refine (X0.out _).mono ?_; rintro e w2 ⟨rfl, rfl⟩) | (go_at_call 38; refine (X1.out _).mono ?_; rintro e w3 ⟨rfl, hb3⟩; (first | (have hD3 := hD.drew.ext hb3; try (have h8' := (hb3.block _ (lt_of_block h8)).trans h8; clear h8; have h8 := h8'; clear h8'; have c8 := cells_of h8; obtain ⟨y0, y1, y2, y3, y4⟩ := c8; have e0 := free_of h8 0; have e1 := free_of h8 1; have e2 := free_of h8 2; have e3 := free_of h8 3; have e4 := free_of h8 4)) | (have hD3 := (hD.drew.ext ((Ext.refl _).alloc _)).ext hb3; have h8 := (hb3.block _ (by simp)).trans (heap_alloc_new _ _); have l8 := hl8 hD.drew.md; have lk5 := lt_of_block hD.drew.h5; have lk6 := lt_of_block hD.drew.h6; have nk4 : W.heap.size ≠ k4 := (Nat.ne_of_lt (lt_of_block hD.drew.h4)).symm; have nk5 : W.heap.size ≠ k5 := (Nat.ne_of_lt (lt_of_block hD.drew.h5)).symm; have c8 := cells_of h8; obtain ⟨y0, y1, y2, y3, y4⟩ := c8; have e0 := free_of h8 0; have e1 := free_of h8 1; have e2 := free_of h8 2; have e3 := free_of h8 3; have e4 := free_of h8 4)); obtain ⟨q0, q1, q2, q3, q4⟩ := cells_of hD3.h4; obtain ⟨o0, o1, o2, o3⟩ := opcells hD3.h5; clear o0 o2 o3))
  all_goals
    (first | (obtain ⟨Wn, hWn⟩ : ∃ Wn, Wn = w3.alloc (rino t q ba er' pl') := ⟨_, rfl⟩; have hE := hD3.toW #[.string t, .int .i64 q, .int .i64 ba, .int .i64 er', .int .i64 pl']; rw [← hWn] at hE; rw [← hWn]; clear hWn; generalize w3.heap.size = k8 at hE ⊢) | (obtain ⟨k8, hk8⟩ : ∃ k8, k8 = W.heap.size := ⟨_, rfl⟩; rw [← hk8]; have hE := hD3.setW (k8 := k8) (by rw [hk8]; exact h8) (by rw [hk8]; exact l8) (by rw [hk8]; exact lk5) (by rw [hk8]; exact lk6) (.string t) (.int .i64 q) (.int .i64 ba) (.int .i64 er') (.int .i64 pl'); clear hk8; clear h8; generalize (((((w3.setCell ⟨k8, 0, none⟩ (.string t)).setCell ⟨k8, 1, none⟩ (.int .i64 q)).setCell ⟨k8, 2, none⟩ (.int .i64 ba)).setCell ⟨k8, 3, none⟩ (.int .i64 er')).setCell ⟨k8, 4, none⟩ (.int .i64 pl')) = Wn at hE ⊢))
    go_wp2_with fail
    obtain ⟨i0, i1, i2, i3, i4⟩ := cells_of hE.h8
    obtain ⟨j0, j1, j2, j3⟩ := opcells hE.h5
    go_region_held3 (fun W' => W'.cell? ⟨k8, 0, none⟩ = some (.string t) ∧ W'.cell? ⟨k8, 1, none⟩ = some (.int .i64 q) ∧ W'.cell? ⟨k8, 2, none⟩ = some (.int .i64 ba) ∧ W'.cell? ⟨k8, 3, none⟩ = some (.int .i64 er') ∧ W'.cell? ⟨k8, 4, none⟩ = some (.int .i64 pl') ∧ W'.cell? ⟨k5, 1, none⟩ = some (.int .i64 n)) (go_keep)
      (first | (go_at_call 17; refine (X2.out _ hE.rd.drew).mono ?_; rintro e wf ⟨rfl, HF, mf⟩; have hF := hE.drew.mod mf HF; obtain ⟨s0, s1, s2, s3, s4⟩ := cells_of hF.h8; obtain ⟨v0, v1, v2, v3⟩ := opcells hF.h5; obtain ⟨z0, z1, z2, z3, z4⟩ := cells_of hF.h6; have f0 := free_of hF.h6 0; have f1 := free_of hF.h6 1; have f2 := free_of hF.h6 2; have f3 := free_of hF.h6 3; have f4 := free_of hF.h6 4; have n68 := hF.n68; have n56 := Ne.symm hF.n56) | (go_at_call 40; refine (X3.out _).mono ?_; rintro e w9 ⟨rfl, rfl⟩))
    all_goals
      go_wp2
      obtain ⟨g1, g2⟩ := hF.finish (.string t) (.int .i64 q) (.int .i64 ba) (.int .i64 er') (.int .i64 pl')
      refine bodyPost_ret (v := .tuple #[rin t q ba er' pl', .bool true]) (by simp [results, Try.results26, go_sem, z0, z1, z2, z3, z4]) rfl ⟨g1, _, _, _, rfl, g2⟩
set_option maxRecDepth 100000 in
set_option maxHeartbeats 2000000 in
theorem do4 (w : World) (b : Nat) (t : ByteArray) (r q : Nat) (ba er pl er' pl' n c : Int) (s : ByteArray) (H : Rdr w b t r ba er pl) (u z : ByteArray) (v x : Int)
    (T0 : ∀ w, Calls Try.prog 13 #[.int .i64 n] w fun e w' => e = .returned (.int .i64 v) ∧ w = w')
    (T1 : ∀ w, Calls Try.prog 38 #[rin t r ba er pl, .int .i64 v] w fun e w' => e = .returned (.tuple #[rin t q ba er' pl', .string u]) ∧ Ext w w')
    (T2 : ∀ w, Rdr w b t r ba er pl → Calls Try.prog 18 #[.pointer (some ⟨b, 0, none⟩), .int .i64 n] w fun e w' => e = .returned (.int .u64 x) ∧ Rdr w' b t q ba er' pl' ∧ Mod b w w')
    (T4 : ∀ w, Calls Try.prog 12 #[.string u] w fun e w' => e = .returned (.string z) ∧ w = w')
    (T3 : ∀ w, Calls Try.prog 40 #[.string z] w fun e w' => e = .returned (.int .u64 x) ∧ w = w') :
    Calls Try.prog 26 #[.pointer (some ⟨b, 0, none⟩), rin t r ba er pl, opv 4 n c s] w (DoEnd w b t ba) := by
  have X0 := Lib.hid T0
  have X1 := Lib.hid T1
  have X2 := Lib.hid T2
  have X3 := Lib.hid T3
  have X4 := Lib.hid T4
  clear T0 T1 T2 T3 T4
  have hl8 : ∀ {X : World}, Mod b w X → w.heap.size ≤ X.heap.size := fun h => h.size
  go_enter Try.func26, Try.ntmps26
  go_wp2_with fail
  obtain ⟨W, hW⟩ : ∃ W, W = ((w.alloc (rino t r ba er pl)).alloc (.cells #[.int .i64 4, .int .i64 n, .int .i64 c, .string s] 45)).alloc (.cells #[.string ⟨#[]⟩, .int .i64 0, .int .i64 0, .int .i64 0, .int .i64 0] 43) := ⟨_, rfl⟩
  have hD : DoS w _ b _ _ _ t r ba er pl 4 n c s _ := DoS.made H
  rw [← hW] at hD
  rw [← hW]
  generalize w.heap.size + 1 + 1 = k6 at hD ⊢
  generalize w.heap.size + 1 = k5 at hD ⊢
  obtain ⟨k4, hk4⟩ : ∃ k4, k4 = w.heap.size := ⟨_, rfl⟩
  rw [← hk4] at hD
  rw [← hk4]
  clear hW hk4
  obtain ⟨a0, a1, a2, a3, a4⟩ := cells_of hD.h4
  obtain ⟨p0, p1, p2, p3⟩ := opcells hD.h5
  go_region_held3 (fun W' => W'.cell? ⟨k4, 0, none⟩ = some (.string t) ∧ W'.cell? ⟨k4, 1, none⟩ = some (.int .i64 r) ∧ W'.cell? ⟨k4, 2, none⟩ = some (.int .i64 ba) ∧ W'.cell? ⟨k4, 3, none⟩ = some (.int .i64 er) ∧ W'.cell? ⟨k4, 4, none⟩ = some (.int .i64 pl) ∧ W'.cell? ⟨k5, 1, none⟩ = some (.int .i64 n)) (go_keep)
    (first | (go_at_call 13; refine (X0.out _).mono ?_; rintro e w2 ⟨rfl, rfl⟩) | (go_at_call 38; refine (X1.out _).mono ?_; rintro e w3 ⟨rfl, hb3⟩; (first | (have hD3 := hD.drew.ext hb3; try (have h8' := (hb3.block _ (lt_of_block h8)).trans h8; clear h8; have h8 := h8'; clear h8'; have c8 := cells_of h8; obtain ⟨y0, y1, y2, y3, y4⟩ := c8; have e0 := free_of h8 0; have e1 := free_of h8 1; have e2 := free_of h8 2; have e3 := free_of h8 3; have e4 := free_of h8 4)) | (have hD3 := (hD.drew.ext ((Ext.refl _).alloc _)).ext hb3; have h8 := (hb3.block _ (by simp)).trans (heap_alloc_new _ _); have l8 := hl8 hD.drew.md; have lk5 := lt_of_block hD.drew.h5; have lk6 := lt_of_block hD.drew.h6; have nk4 : W.heap.size ≠ k4 := (Nat.ne_of_lt (lt_of_block hD.drew.h4)).symm; have nk5 : W.heap.size ≠ k5 := (Nat.ne_of_lt (lt_of_block hD.drew.h5)).symm; have c8 := cells_of h8; obtain ⟨y0, y1, y2, y3, y4⟩ := c8; have e0 := free_of h8 0; have e1 := free_of h8 1; have e2 := free_of h8 2; have e3 := free_of h8 3; have e4 := free_of h8 4)); obtain ⟨q0, q1, q2, q3, q4⟩ := cells_of hD3.h4; obtain ⟨o0, o1, o2, o3⟩ := opcells hD3.h5; clear o0 o2 o3))
  all_goals
    (first | (obtain ⟨Wn, hWn⟩ : ∃ Wn, Wn = w3.alloc (rino t q ba er' pl') := ⟨_, rfl⟩; have hE := hD3.toW #[.string t, .int .i64 q, .int .i64 ba, .int .i64 er', .int .i64 pl']; rw [← hWn] at hE; rw [← hWn]; clear hWn; generalize w3.heap.size = k8 at hE ⊢) | (obtain ⟨k8, hk8⟩ : ∃ k8, k8 = W.heap.size := ⟨_, rfl⟩; rw [← hk8]; have hE := hD3.setW (k8 := k8) (by rw [hk8]; exact h8) (by rw [hk8]; exact l8) (by rw [hk8]; exact lk5) (by rw [hk8]; exact lk6) (.string t) (.int .i64 q) (.int .i64 ba) (.int .i64 er') (.int .i64 pl'); clear hk8; clear h8; generalize (((((w3.setCell ⟨k8, 0, none⟩ (.string t)).setCell ⟨k8, 1, none⟩ (.int .i64 q)).setCell ⟨k8, 2, none⟩ (.int .i64 ba)).setCell ⟨k8, 3, none⟩ (.int .i64 er')).setCell ⟨k8, 4, none⟩ (.int .i64 pl')) = Wn at hE ⊢))
    go_wp2_with fail
    obtain ⟨i0, i1, i2, i3, i4⟩ := cells_of hE.h8
    obtain ⟨j0, j1, j2, j3⟩ := opcells hE.h5
    go_region_held3 (fun W' => W'.cell? ⟨k8, 0, none⟩ = some (.string t) ∧ W'.cell? ⟨k8, 1, none⟩ = some (.int .i64 q) ∧ W'.cell? ⟨k8, 2, none⟩ = some (.int .i64 ba) ∧ W'.cell? ⟨k8, 3, none⟩ = some (.int .i64 er') ∧ W'.cell? ⟨k8, 4, none⟩ = some (.int .i64 pl') ∧ W'.cell? ⟨k5, 1, none⟩ = some (.int .i64 n)) (go_keep)
      (first | (go_at_call 18; refine (X2.out _ hE.rd.drew).mono ?_; rintro e wf ⟨rfl, HF, mf⟩; have hF := hE.drew.mod mf HF; obtain ⟨s0, s1, s2, s3, s4⟩ := cells_of hF.h8; obtain ⟨v0, v1, v2, v3⟩ := opcells hF.h5; obtain ⟨z0, z1, z2, z3, z4⟩ := cells_of hF.h6; have f0 := free_of hF.h6 0; have f1 := free_of hF.h6 1; have f2 := free_of hF.h6 2; have f3 := free_of hF.h6 3; have f4 := free_of hF.h6 4; have n68 := hF.n68; have n56 := Ne.symm hF.n56) | (go_at_call 12; refine (X4.out _).mono ?_; rintro e w8 ⟨rfl, rfl⟩) | (go_at_call 40; refine (X3.out _).mono ?_; rintro e w9 ⟨rfl, rfl⟩))
    all_goals
      go_wp2
      obtain ⟨g1, g2⟩ := hF.finish (.string t) (.int .i64 q) (.int .i64 ba) (.int .i64 er') (.int .i64 pl')
      refine bodyPost_ret (v := .tuple #[rin t q ba er' pl', .bool true]) (by simp [results, Try.results26, go_sem, z0, z1, z2, z3, z4]) rfl ⟨g1, _, _, _, rfl, g2⟩
set_option maxRecDepth 100000 in
set_option maxHeartbeats 2000000 in
theorem do2 (w : World) (b : Nat) (t : ByteArray) (r : Nat) (ba er pl n c : Int) (s : ByteArray) (H : Rdr w b t r ba er pl) (u : ByteArray)
    (T1 : ∀ w, Calls Try.prog 39 #[rin t r ba er pl, .int .i64 n] w fun e w' => e = .returned (.string u) ∧ Ext w w')
    (T2 : ∀ w, Rdr w b t r ba er pl → Calls Try.prog 34 #[.pointer (some ⟨b, 0, none⟩), .int .i64 n] w fun e w' => e = .returned (.string u) ∧ Ext w w') :
    Calls Try.prog 26 #[.pointer (some ⟨b, 0, none⟩), rin t r ba er pl, opv 2 n c s] w (DoEnd w b t ba) := by
  have X1 := Lib.hid T1
  have X2 := Lib.hid T2
  clear T1 T2
  have hl8 : ∀ {X : World}, Mod b w X → w.heap.size ≤ X.heap.size := fun h => h.size
  go_enter Try.func26, Try.ntmps26
  go_wp2_with fail
  obtain ⟨W, hW⟩ : ∃ W, W = ((w.alloc (rino t r ba er pl)).alloc (.cells #[.int .i64 2, .int .i64 n, .int .i64 c, .string s] 45)).alloc (.cells #[.string ⟨#[]⟩, .int .i64 0, .int .i64 0, .int .i64 0, .int .i64 0] 43) := ⟨_, rfl⟩
  have hD : DoS w _ b _ _ _ t r ba er pl 2 n c s _ := DoS.made H
  rw [← hW] at hD
  rw [← hW]
  generalize w.heap.size + 1 + 1 = k6 at hD ⊢
  generalize w.heap.size + 1 = k5 at hD ⊢
  obtain ⟨k4, hk4⟩ : ∃ k4, k4 = w.heap.size := ⟨_, rfl⟩
  rw [← hk4] at hD
  rw [← hk4]
  clear hW hk4
  obtain ⟨a0, a1, a2, a3, a4⟩ := cells_of hD.h4
  obtain ⟨p0, p1, p2, p3⟩ := opcells hD.h5
  have hC := hD.drew
  have n64 := hD.n64
  have n65 := hD.n65
  go_region_held3 (fun W' => W'.cell? ⟨k4, 0, none⟩ = some (.string t) ∧ W'.cell? ⟨k4, 1, none⟩ = some (.int .i64 r) ∧ W'.cell? ⟨k4, 2, none⟩ = some (.int .i64 ba) ∧ W'.cell? ⟨k4, 3, none⟩ = some (.int .i64 er) ∧ W'.cell? ⟨k4, 4, none⟩ = some (.int .i64 pl) ∧ W'.cell? ⟨k5, 1, none⟩ = some (.int .i64 n)) (go_keep)
    (first | (go_at_call 39; refine (X1.out _).mono ?_; rintro e wx ⟨rfl, hbx⟩; have hC' := hC.ext hbx; clear hC; have hC := hC'; clear hC'; obtain ⟨q0, q1, q2, q3, q4⟩ := cells_of hC.h4; obtain ⟨o0, o1, o2, o3⟩ := opcells hC.h5; clear o0 o2 o3; obtain ⟨z0, z1, z2, z3, z4⟩ := cells_of hC.h6; have f0 := free_of hC.h6 0; have f1 := free_of hC.h6 1; have f2 := free_of hC.h6 2; have f3 := free_of hC.h6 3; have f4 := free_of hC.h6 4) | (go_at_call 34; refine (X2.out _ hC.rd).mono ?_; rintro e wx ⟨rfl, hbx⟩; have hC' := hC.ext hbx; clear hC; have hC := hC'; clear hC'; obtain ⟨q0, q1, q2, q3, q4⟩ := cells_of hC.h4; obtain ⟨o0, o1, o2, o3⟩ := opcells hC.h5; clear o0 o2 o3; obtain ⟨z0, z1, z2, z3, z4⟩ := cells_of hC.h6; have f0 := free_of hC.h6 0; have f1 := free_of hC.h6 1; have f2 := free_of hC.h6 2; have f3 := free_of hC.h6 3; have f4 := free_of hC.h6 4))
  all_goals
    go_wp2
    obtain ⟨g1, g2⟩ := hC.finish (.string t) (.int .i64 r) (.int .i64 ba) (.int .i64 er) (.int .i64 pl)
    refine bodyPost_ret (v := .tuple #[rin t r ba er pl, .bool true]) (by simp [results, Try.results26, go_sem, z0, z1, z2, z3, z4]) rfl ⟨g1, _, _, _, rfl, g2⟩
end Go.Proofs.Ytdegnjbpjffgmaa
