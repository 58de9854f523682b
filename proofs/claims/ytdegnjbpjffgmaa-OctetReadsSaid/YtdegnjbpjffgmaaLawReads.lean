/-
  The law OctetReads holds at every text, base and list of things read: whatever is read, each answer, and the place and the fault behind it, are the document's.
  Conditions: none beyond the row's own.
-/
import Derived.Test.YtdegnjbpjffgmaaOct16
import Derived.Deep.Slices
import Derived.Deep.Fields
import Derived.ChangeOld
namespace Go.Proofs.Ytdegnjbpjffgmaa.octetReads
open Go Go.Proofs.Ytdegnjbpjffgmaa Go.ChangeShapes Go.WideShapes Go.ChangeAt Go.RowKit
open Go.ChangeMaps (open_string shut_string)
set_option linter.unusedSimpArgs false
set_option linter.unusedVariables false

/-- One thing read, out of the reading of its four cells. -/
theorem op_read {H : Type} {enc : TypeId × Value → H} {w : World} {base : Nat} {spare : Nat → Bool} {held : Bool} {n : Nat} {cs : List Value} {x : DataW H × List MemPlace} (hl : cs.length = 4)
    (h : DataW.trod enc Try.prog w base spare held n 45 cs = some x) : ∃ (k m c : Int) (s : ByteArray), cs = [.int .i64 k, .int .i64 m, .int .i64 c, .string s] := by
  match cs, hl with
  | [v0, v1, v2, v3], _ =>
    have c3 : Try.prog.cellsOf 3 = 1 := by kernel_rfl
    have c9 : Try.prog.cellsOf 9 = 1 := by kernel_rfl
    obtain ⟨ys, n', _, _, hlen, hyl, hf⟩ := DataW.trod_struct Try.underlying45 h
    have hlen' : ys.length = 4 := hyl
    match ys, hlen' with
    | [y0, y1, y2, y3], _ =>
      have f0 : DataW.trod enc Try.prog w base spare held n' 3 (([v0, v1, v2, v3].drop 0).take (Try.prog.cellsOf 3)) = some y0 := hf 0 _ rfl
      rw [c3] at f0
      have f1 : DataW.trod enc Try.prog w base spare held n' 3 (([v0, v1, v2, v3].drop 1).take (Try.prog.cellsOf 3)) = some y1 := hf 1 _ rfl
      rw [c3] at f1
      have f2 : DataW.trod enc Try.prog w base spare held n' 3 (([v0, v1, v2, v3].drop 2).take (Try.prog.cellsOf 3)) = some y2 := hf 2 _ rfl
      rw [c3] at f2
      have f3 : DataW.trod enc Try.prog w base spare held n' 9 (([v0, v1, v2, v3].drop 3).take (Try.prog.cellsOf 9)) = some y3 := hf 3 _ rfl
      rw [c9] at f3
      obtain ⟨k, g0, _, _⟩ := DataW.trod_int Try.underlying3 f0
      obtain ⟨m, g1, _, _⟩ := DataW.trod_int Try.underlying3 f1
      obtain ⟨c, g2, _, _⟩ := DataW.trod_int Try.underlying3 f2
      obtain ⟨s, g3, _, _⟩ := DataW.trod_string Try.underlying9 f3
      simp at g0 g1 g2 g3
      subst g0 g1 g2 g3
      exact ⟨k, m, c, s, rfl⟩
theorem lefts (b : Nat) (t : ByteArray) (r : Nat) (ba er pl : Int) (hle : r ≤ t.size) (hs : t.size ≤ 1099511627776) : ∃ v : Int,
    (∀ W, Rdr W b t r ba er pl → Calls Try.prog 19 #[.pointer (some ⟨b, 0, none⟩)] W fun e w' => e = .returned (.int .i64 v) ∧ Ext W w') ∧
    (∀ W, Calls Try.prog 27 #[rin t r ba er pl] W fun e w' => e = .returned (.int .i64 v) ∧ Ext W w') := by
  by_cases he : er = 0
  · subst he
    exact ⟨_, fun W H => left_ok W b t r ba pl H, fun W => (mleft_ok t r ba pl W hle hs).mono fun e w' ⟨h1, h2⟩ => ⟨h1, by rw [← h2]; exact (Ext.refl _).alloc _⟩⟩
  · exact ⟨0, fun W H => left_bad W b t r ba er pl H (ne_of_er he), fun W => (mleft_bad t r ba er pl W (ne_of_er he)).mono fun e w' ⟨h1, h2⟩ => ⟨h1, by rw [← h2]; exact (Ext.refl _).alloc _⟩⟩
theorem own : ownKnob Try.prog.godebug = none := by kernel_rfl
theorem laidOut : laidOutB Try.prog = true := by kernel_rfl
/-- The two readers, side by side. -/
structure RW (w0 W : World) (b k8 : Nat) (t : ByteArray) (r : Nat) (ba er pl : Int) : Prop where
  rd : Rdr W b t r ba er pl
  h8 : W.heap[k8]? = some (.cells #[.string t, .int .i64 r, .int .i64 ba, .int .i64 er, .int .i64 pl] 43 (0, 0))
  ex : Ext w0 W
  lb : w0.heap.size ≤ b
  l8 : w0.heap.size ≤ k8
  nb : b ≠ k8
theorem RW.ext {w0 W W2 : World} {b k8 : Nat} {t : ByteArray} {r : Nat} {ba er pl : Int} (h : RW w0 W b k8 t r ba er pl) (hx : Ext W W2) : RW w0 W2 b k8 t r ba er pl :=
  ⟨h.rd.ext hx, (hx.block _ (lt_of_block h.h8)).trans h.h8, h.ex.trans hx, h.lb, h.l8, h.nb⟩
theorem RW.set {w0 W W2 W3 : World} {b k8 : Nat} {t : ByteArray} {r r' : Nat} {ba er pl er' pl' : Int} (h : RW w0 W b k8 t r ba er pl) (hx : Ext W W2) (hm : Mod b W2 W3) (hr : Rdr W3 b t r' ba er' pl') (m : Obj) :
    RW w0 ((((((W3.setCell ⟨k8, 0, none⟩ (.string t)).setCell ⟨k8, 1, none⟩ (.int .i64 r')).setCell ⟨k8, 2, none⟩ (.int .i64 ba)).setCell ⟨k8, 3, none⟩ (.int .i64 er')).setCell ⟨k8, 4, none⟩ (.int .i64 pl')).alloc m) b k8 t r' ba er' pl' := by
  have h2 := h.ext hx
  have h8 : W3.heap[k8]? = some (.cells #[.string t, .int .i64 r, .int .i64 ba, .int .i64 er, .int .i64 pl] 43 (0, 0)) := (hm.block _ (lt_of_block h2.h8) (by simpa using Ne.symm h.nb)).trans h2.h8
  have e3 : Ext w0 W3 := h2.ex.mod hm h.lb
  exact RW.ext ⟨((((hr.setFar h.nb _).setFar h.nb _).setFar h.nb _).setFar h.nb _).setFar h.nb _, set5 h8 _ _ _ _ _, ((((e3.setCell h.l8 _).setCell h.l8 _).setCell h.l8 _).setCell h.l8 _).setCell h.l8 _, h.lb, h.l8, h.nb⟩ ((Ext.refl _).alloc m)
/-- What a list of things read is in memory. -/
structure Ops (w : World) (x : Nat) (off len : Nat) (K N C : Nat → Int) (S : Nat → ByteArray) : Prop where
  k : ∀ i, i < len → w.cell? ⟨x, off + i * 4, none⟩ = some (.int .i64 (K i))
  n : ∀ i, i < len → w.cell? ⟨x, off + i * 4 + 1, none⟩ = some (.int .i64 (N i))
  c : ∀ i, i < len → w.cell? ⟨x, off + i * 4 + 2, none⟩ = some (.int .i64 (C i))
  s : ∀ i, i < len → w.cell? ⟨x, off + i * 4 + 3, none⟩ = some (.string (S i))
set_option maxRecDepth 100000 in
set_option maxHeartbeats 2000000 in
theorem walk_in (t : ByteArray) (ba : Int) (x off len cap : Nat) (K N C : Nat → Int) (S : Nat → ByteArray) (w : World) (hO : Ops w x off len K N C S) (ht : (t.size : Int) ≤ 2000) (hl : (len : Int) ≤ 100) (h0 : 0 ≤ ba) (h1 : ba ≤ 1099511627776) :
    Calls Try.prog 5 #[.string t, .int .i64 ba, .slice (some ⟨x, off, none⟩) len cap] w fun e w' => e = .returned (.bool true) ∧ Ext w w' := by
  have HO := Lib.hid hO
  clear hO
  have hd1 : decide ((2000 : Int) < t.size) = false := by simpa using ht
  have hd2 : decide ((100 : Int) < len) = false := by simpa using hl
  have hd3 : decide ((1099511627776 : Int) < ba) = false := by simpa using h1
  go_enter Try.func5, Try.ntmps5
  go_wp2_with (go_at_call 25; refine (inner_any _ _ _ (by omega) h0 h1).mono ?_; rintro e w1 ⟨rfl, H1, hb1⟩)
  have hW : RW w (w1.alloc (.cells #[.string t, .int .i64 (0 : Nat), .int .i64 ba, .int .i64 0, .int .i64 0] 43)) w.heap.size w1.heap.size t 0 ba 0 0 :=
    ⟨H1.ext ((Ext.refl _).alloc _), heap_alloc_new _ _, hb1.alloc _, Nat.le_refl _, hb1.size, Nat.ne_of_lt H1.lt⟩
  obtain ⟨W, hWe⟩ : ∃ W, W = w1.alloc (.cells #[.string t, .int .i64 (0 : Nat), .int .i64 ba, .int .i64 0, .int .i64 0] 43) := ⟨_, rfl⟩
  have hWe' : w1.alloc (.cells #[.string t, .int .i64 0, .int .i64 ba, .int .i64 0, .int .i64 0] 43) = W := hWe.symm
  rw [← hWe] at hW
  rw [hWe']
  obtain ⟨b, hb⟩ : ∃ b, b = w.heap.size := ⟨_, rfl⟩
  rw [← hb] at hW
  rw [← hb]
  generalize w1.heap.size = k8 at hW ⊢
  clear hWe hWe' hb1 H1 hb
  go_loopw [35] (fun i wr => ∃ (k r : Nat) (er pl : Int), k ≤ len ∧ i = .int .i64 k ∧ RW w wr b k8 t r ba er pl) (fun i _ => len - (intOf i).toNat)
  case atStart => exact ⟨0, 0, 0, 0, Nat.zero_le _, rfl, hW⟩
  case round =>
    obtain ⟨k, r, er, pl, hk, rfl, hR⟩ := hrel
    clear hW
    by_cases hlt : k < len
    · have i0 : (0 : Int) ≤ k := by omega
      have i1 : (k : Int) < len := by omega
      have hx : ∀ p, p < w.heap.size → wr.heap[p]? = w.heap[p]? := hR.ex.block
      have hxl : x < w.heap.size := World.block_lt_of_cell? w _ (HO.out.k k hlt)
      have hcell : ∀ o, wr.cell? ⟨x, o, none⟩ = w.cell? ⟨x, o, none⟩ := fun o => World.cell?_of_block (w := w) (hR.ex.block x hxl)
      have c0 := (hcell _).trans (HO.out.k k hlt)
      have c1 := (hcell _).trans (HO.out.n k hlt)
      have c2 := (hcell _).trans (HO.out.c k hlt)
      have c3 := (hcell _).trans (HO.out.s k hlt)
      clear hx hcell
      obtain ⟨m0, m1, m2, m3, m4⟩ := cells_of hR.h8
      have kl := lt_of_block hR.h8
      by_cases hS : 200 < ((S k).size : Int)
      · go_wp2_with (go_at_call 16; refine (awake_yes _).mono ?_; rintro e w2 ⟨rfl, hb2⟩)
        go_ret
        exact ⟨rfl, (hR.ex.alloc _).trans hb2⟩
      · have hSl : (S k).size ≤ 1099511627776 := by omega
        obtain ⟨ob, hob⟩ : ∃ ob : Obj, ob = .cells #[.int .i64 (K k), .int .i64 (N k), .int .i64 (C k), .string (S k)] 45 := ⟨_, rfl⟩
        have hRd : Rdr (wr.alloc ob) b t r ba er pl := hR.rd.ext ((Ext.refl _).alloc _)
        rw [hob] at hRd
        clear hob
        go_wp2_with (go_at_call 26; refine (do_any _ b t r ba er pl (K k) (N k) (C k) (S k) hRd hSl).mono ?_; rintro e w3 ⟨mm, r', er', pl', rfl, H3⟩; have hC := hR.set ((Ext.refl _).alloc _) mm H3 (rino t r' ba er' pl'); have h83 := ((mm.block _ (lt_of_block (hR.ext ((Ext.refl _).alloc _)).h8) (by simpa using Ne.symm hR.nb)).trans (hR.ext ((Ext.refl _).alloc _)).h8); have k83 := lt_of_block h83; have h84 := (Below.heap_alloc w3 (rino t r' ba er' pl') k8 k83).trans h83; obtain ⟨n0, n1, n2, n3, n4⟩ := cells_of h83; have g0 := free_of h83 0; have g1 := free_of h83 1; have g2 := free_of h83 2; have g3 := free_of h83 3; have g4 := free_of h83 4; obtain ⟨nn0, nn1, nn2, nn3, nn4⟩ := cells_of h84; have gg0 := free_of h84 0; have gg1 := free_of h84 1; have gg2 := free_of h84 2; have gg3 := free_of h84 3; have gg4 := free_of h84 4; clear h83 h84)
        clear hR hRd c0 c1 c2 c3 m0 m1 m2 m3 m4 n0 n1 n2 n3 n4 g0 g1 g2 g3 g4 nn0 nn1 nn2 nn3 nn4 gg0 gg1 gg2 gg3 gg4
        obtain ⟨Wc, hWc⟩ : ∃ Wc, Wc = ((((((w3.setCell ⟨k8, 0, none⟩ (.string t)).setCell ⟨k8, 1, none⟩ (.int .i64 r')).setCell ⟨k8, 2, none⟩ (.int .i64 ba)).setCell ⟨k8, 3, none⟩ (.int .i64 er')).setCell ⟨k8, 4, none⟩ (.int .i64 pl')).alloc (rino t r' ba er' pl')) := ⟨_, rfl⟩
        rw [← hWc] at hC
        rw [← hWc]
        clear hWc H3 mm
        have hle := hC.rd.le
        have hsm := hC.rd.small
        have hwr : IntKind.i64.wrap (ba + ↑r') = ba + ↑r' := IntWalk.i64_in _ (by omega)
        obtain ⟨v, hL, hM⟩ := lefts b t r' ba er' pl' hle hsm
        have HL := Lib.hid hL
        have HM := Lib.hid hM
        clear hL hM
        obtain ⟨q0, q1, q2, q3, q4⟩ := cells_of hC.h8
        have hC2 := hC.ext (Ext.drew (Ext.refl _))
        clear hC
        have hC := hC2
        clear hC2
        go_region_held3 (fun W' => W'.cell? ⟨k8, 0, none⟩ = some (.string t) ∧ W'.cell? ⟨k8, 1, none⟩ = some (.int .i64 r') ∧ W'.cell? ⟨k8, 2, none⟩ = some (.int .i64 ba) ∧ W'.cell? ⟨k8, 3, none⟩ = some (.int .i64 er') ∧ W'.cell? ⟨k8, 4, none⟩ = some (.int .i64 pl')) (go_keep)
          (first | (go_at_call 19; refine (HL.out _ hC.rd).mono ?_; rintro e wx ⟨rfl, hbx⟩; have hC' := hC.ext hbx; clear hC; have hC := hC'; clear hC'; obtain ⟨q0, q1, q2, q3, q4⟩ := cells_of hC.h8) | (go_at_call 27; refine (HM.out _).mono ?_; rintro e wx ⟨rfl, hbx⟩; have hC' := hC.ext hbx; clear hC; have hC := hC'; clear hC'; obtain ⟨q0, q1, q2, q3, q4⟩ := cells_of hC.h8) | (go_at_call 28; refine (at_any _ _ _ _ _ _ _ hC.rd).mono ?_; rintro e wx ⟨rfl, hbx⟩; have hC' := hC.ext hbx; clear hC; have hC := hC'; clear hC'; obtain ⟨q0, q1, q2, q3, q4⟩ := cells_of hC.h8) | (go_at_call 20; refine (fault_at _ _ _ _ _ _ _ hC.rd).mono ?_; rintro e wx ⟨rfl, hbx⟩; have hC' := hC.ext hbx; clear hC; have hC := hC'; clear hC'; obtain ⟨q0, q1, q2, q3, q4⟩ := cells_of hC.h8))
        go_wp2
        go_roundw
        case rel => exact ⟨k + 1, r', er', pl', by omega, by go_num, hC⟩
        case measure => simp [intOf]; omega
    · go_wp2_with (go_at_call 16; refine (awake_yes _).mono ?_; rintro e w2 ⟨rfl, hb2⟩)
      go_ret
      exact ⟨rfl, hR.ex.trans hb2⟩
set_option maxRecDepth 100000 in
set_option maxHeartbeats 2000000 in
theorem walk_low (t : ByteArray) (a : Int) (x off len cap : Nat) (K N C : Nat → Int) (S : Nat → ByteArray) (w : World) (hO : Ops w x off len K N C S) (ht : (t.size : Int) ≤ 2000) (hl : (len : Int) ≤ 100) (h0 : a < 0) :
    Calls Try.prog 5 #[.string t, .int .i64 a, .slice (some ⟨x, off, none⟩) len cap] w fun e w' => e = .returned (.bool true) ∧ Ext w w' := by
  have HO := Lib.hid hO
  clear hO
  have hd1 : decide ((2000 : Int) < t.size) = false := by simpa using ht
  have hd2 : decide ((100 : Int) < len) = false := by simpa using hl
  have hd3 : decide ((1099511627776 : Int) < a) = false := by simp; omega
  go_enter Try.func5, Try.ntmps5
  go_wp2_with (go_at_call 25; refine (inner_low _ _ _ (by omega) h0).mono ?_; rintro e w1 ⟨rfl, H1, hb1⟩)
  have hW : RW w (w1.alloc (.cells #[.string t, .int .i64 (0 : Nat), .int .i64 0, .int .i64 0, .int .i64 0] 43)) w.heap.size w1.heap.size t 0 0 0 0 :=
    ⟨H1.ext ((Ext.refl _).alloc _), heap_alloc_new _ _, hb1.alloc _, Nat.le_refl _, hb1.size, Nat.ne_of_lt H1.lt⟩
  obtain ⟨W, hWe⟩ : ∃ W, W = w1.alloc (.cells #[.string t, .int .i64 (0 : Nat), .int .i64 0, .int .i64 0, .int .i64 0] 43) := ⟨_, rfl⟩
  have hWe' : w1.alloc (.cells #[.string t, .int .i64 0, .int .i64 0, .int .i64 0, .int .i64 0] 43) = W := hWe.symm
  rw [← hWe] at hW
  rw [hWe']
  obtain ⟨b, hb⟩ : ∃ b, b = w.heap.size := ⟨_, rfl⟩
  rw [← hb] at hW
  rw [← hb]
  generalize w1.heap.size = k8 at hW ⊢
  clear hWe hWe' hb1 H1 hb
  go_loopw [35] (fun i wr => ∃ (k r : Nat) (er pl : Int), k ≤ len ∧ i = .int .i64 k ∧ RW w wr b k8 t r 0 er pl) (fun i _ => len - (intOf i).toNat)
  case atStart => exact ⟨0, 0, 0, 0, Nat.zero_le _, rfl, hW⟩
  case round =>
    obtain ⟨k, r, er, pl, hk, rfl, hR⟩ := hrel
    clear hW
    by_cases hlt : k < len
    · have i0 : (0 : Int) ≤ k := by omega
      have i1 : (k : Int) < len := by omega
      have hx : ∀ p, p < w.heap.size → wr.heap[p]? = w.heap[p]? := hR.ex.block
      have hxl : x < w.heap.size := World.block_lt_of_cell? w _ (HO.out.k k hlt)
      have hcell : ∀ o, wr.cell? ⟨x, o, none⟩ = w.cell? ⟨x, o, none⟩ := fun o => World.cell?_of_block (w := w) (hR.ex.block x hxl)
      have c0 := (hcell _).trans (HO.out.k k hlt)
      have c1 := (hcell _).trans (HO.out.n k hlt)
      have c2 := (hcell _).trans (HO.out.c k hlt)
      have c3 := (hcell _).trans (HO.out.s k hlt)
      clear hx hcell
      obtain ⟨m0, m1, m2, m3, m4⟩ := cells_of hR.h8
      have kl := lt_of_block hR.h8
      by_cases hS : 200 < ((S k).size : Int)
      · go_wp2_with (go_at_call 16; refine (awake_yes _).mono ?_; rintro e w2 ⟨rfl, hb2⟩)
        go_ret
        exact ⟨rfl, (hR.ex.alloc _).trans hb2⟩
      · have hSl : (S k).size ≤ 1099511627776 := by omega
        obtain ⟨ob, hob⟩ : ∃ ob : Obj, ob = .cells #[.int .i64 (K k), .int .i64 (N k), .int .i64 (C k), .string (S k)] 45 := ⟨_, rfl⟩
        have hRd : Rdr (wr.alloc ob) b t r 0 er pl := hR.rd.ext ((Ext.refl _).alloc _)
        rw [hob] at hRd
        clear hob
        go_wp2_with (go_at_call 26; refine (do_any _ b t r 0 er pl (K k) (N k) (C k) (S k) hRd hSl).mono ?_; rintro e w3 ⟨mm, r', er', pl', rfl, H3⟩; have hC := hR.set ((Ext.refl _).alloc _) mm H3 (rino t r' 0 er' pl'); have h83 := ((mm.block _ (lt_of_block (hR.ext ((Ext.refl _).alloc _)).h8) (by simpa using Ne.symm hR.nb)).trans (hR.ext ((Ext.refl _).alloc _)).h8); have k83 := lt_of_block h83; have h84 := (Below.heap_alloc w3 (rino t r' 0 er' pl') k8 k83).trans h83; obtain ⟨n0, n1, n2, n3, n4⟩ := cells_of h83; have g0 := free_of h83 0; have g1 := free_of h83 1; have g2 := free_of h83 2; have g3 := free_of h83 3; have g4 := free_of h83 4; obtain ⟨nn0, nn1, nn2, nn3, nn4⟩ := cells_of h84; have gg0 := free_of h84 0; have gg1 := free_of h84 1; have gg2 := free_of h84 2; have gg3 := free_of h84 3; have gg4 := free_of h84 4; clear h83 h84)
        clear hR hRd c0 c1 c2 c3 m0 m1 m2 m3 m4 n0 n1 n2 n3 n4 g0 g1 g2 g3 g4 nn0 nn1 nn2 nn3 nn4 gg0 gg1 gg2 gg3 gg4
        obtain ⟨Wc, hWc⟩ : ∃ Wc, Wc = ((((((w3.setCell ⟨k8, 0, none⟩ (.string t)).setCell ⟨k8, 1, none⟩ (.int .i64 r')).setCell ⟨k8, 2, none⟩ (.int .i64 0)).setCell ⟨k8, 3, none⟩ (.int .i64 er')).setCell ⟨k8, 4, none⟩ (.int .i64 pl')).alloc (rino t r' 0 er' pl')) := ⟨_, rfl⟩
        rw [← hWc] at hC
        rw [← hWc]
        clear hWc H3 mm
        have hle := hC.rd.le
        have hsm := hC.rd.small
        have hwr : IntKind.i64.wrap (↑r' : Int) = ↑r' := IntWalk.i64_in _ (by omega)
        obtain ⟨v, hL, hM⟩ := lefts b t r' 0 er' pl' hle hsm
        have HL := Lib.hid hL
        have HM := Lib.hid hM
        clear hL hM
        obtain ⟨q0, q1, q2, q3, q4⟩ := cells_of hC.h8
        have hC2 := hC.ext (Ext.drew (Ext.refl _))
        clear hC
        have hC := hC2
        clear hC2
        go_region_held3 (fun W' => W'.cell? ⟨k8, 0, none⟩ = some (.string t) ∧ W'.cell? ⟨k8, 1, none⟩ = some (.int .i64 r') ∧ W'.cell? ⟨k8, 2, none⟩ = some (.int .i64 0) ∧ W'.cell? ⟨k8, 3, none⟩ = some (.int .i64 er') ∧ W'.cell? ⟨k8, 4, none⟩ = some (.int .i64 pl')) (go_keep)
          (first | (go_at_call 19; refine (HL.out _ hC.rd).mono ?_; rintro e wx ⟨rfl, hbx⟩; have hC' := hC.ext hbx; clear hC; have hC := hC'; clear hC'; obtain ⟨q0, q1, q2, q3, q4⟩ := cells_of hC.h8) | (go_at_call 27; refine (HM.out _).mono ?_; rintro e wx ⟨rfl, hbx⟩; have hC' := hC.ext hbx; clear hC; have hC := hC'; clear hC'; obtain ⟨q0, q1, q2, q3, q4⟩ := cells_of hC.h8) | (go_at_call 28; refine (at_any _ _ _ _ _ _ _ hC.rd).mono ?_; rintro e wx ⟨rfl, hbx⟩; have hC' := hC.ext hbx; clear hC; have hC := hC'; clear hC'; obtain ⟨q0, q1, q2, q3, q4⟩ := cells_of hC.h8) | (go_at_call 20; refine (fault_at _ _ _ _ _ _ _ hC.rd).mono ?_; rintro e wx ⟨rfl, hbx⟩; have hC' := hC.ext hbx; clear hC; have hC := hC'; clear hC'; obtain ⟨q0, q1, q2, q3, q4⟩ := cells_of hC.h8))
        go_wp2
        go_roundw
        case rel => exact ⟨k + 1, r', er', pl', by omega, by go_num, hC⟩
        case measure => simp [intOf]; omega
    · go_wp2_with (go_at_call 16; refine (awake_yes _).mono ?_; rintro e w2 ⟨rfl, hb2⟩)
      go_ret
      exact ⟨rfl, hR.ex.trans hb2⟩
theorem walk_nil (t : ByteArray) (ba : Int) (a : Option Addr) (cap : Nat) (w : World) (ht : (t.size : Int) ≤ 2000) (h1 : ba ≤ 1099511627776) :
    Calls Try.prog 5 #[.string t, .int .i64 ba, .slice a 0 cap] w fun e w' => e = .returned (.bool true) ∧ Ext w w' := by
  by_cases h0 : 0 ≤ ba
  · go_enter Try.func5, Try.ntmps5
    go_wp2_with (first | (go_at_call 25; refine (inner_any _ _ _ (by omega) h0 h1).mono ?_; rintro e w1 ⟨rfl, H1, hb1⟩) | (go_at_call 16; refine (awake_yes _).mono ?_; rintro e w2 ⟨rfl, hb2⟩))
    refine wp_loop_rounds 1 ?_
    rw [rounds_succ]
    go_wp2_with (first | (go_at_call 25; refine (inner_any _ _ _ (by omega) h0 h1).mono ?_; rintro e w1 ⟨rfl, H1, hb1⟩) | (go_at_call 16; refine (awake_yes _).mono ?_; rintro e w2 ⟨rfl, hb2⟩))
    go_ret
    exact ⟨rfl, (hb1.alloc _).trans hb2⟩
  · have h0' : ba < 0 := by omega
    go_enter Try.func5, Try.ntmps5
    go_wp2_with (first | (go_at_call 25; refine (inner_low _ _ _ (by omega) h0').mono ?_; rintro e w1 ⟨rfl, H1, hb1⟩) | (go_at_call 16; refine (awake_yes _).mono ?_; rintro e w2 ⟨rfl, hb2⟩))
    refine wp_loop_rounds 1 ?_
    rw [rounds_succ]
    go_wp2_with (first | (go_at_call 25; refine (inner_low _ _ _ (by omega) h0').mono ?_; rintro e w1 ⟨rfl, H1, hb1⟩) | (go_at_call 16; refine (awake_yes _).mono ?_; rintro e w2 ⟨rfl, hb2⟩))
    go_ret
    exact ⟨rfl, (hb1.alloc _).trans hb2⟩
theorem walk_text (t : ByteArray) (ba : Int) (a : Option Addr) (len cap : Nat) (w : World) (ht : 2000 < (t.size : Int)) :
    Calls Try.prog 5 #[.string t, .int .i64 ba, .slice a len cap] w fun e w' => e = .returned (.bool true) ∧ Ext w w' := by
  go_enter Try.func5, Try.ntmps5
  go_wp2_with (first | (go_at_call 25; refine (inner_any _ _ _ (by omega) h0 h1).mono ?_; rintro e w1 ⟨rfl, H1, hb1⟩) | (go_at_call 16; refine (awake_yes _).mono ?_; rintro e w2 ⟨rfl, hb2⟩))
  go_ret
  exact ⟨rfl, hb2⟩
theorem walk_long (t : ByteArray) (ba : Int) (a : Option Addr) (len cap : Nat) (w : World) (ht : (t.size : Int) ≤ 2000) (hl : 100 < (len : Int)) :
    Calls Try.prog 5 #[.string t, .int .i64 ba, .slice a len cap] w fun e w' => e = .returned (.bool true) ∧ Ext w w' := by
  go_enter Try.func5, Try.ntmps5
  go_wp2_with (first | (go_at_call 25; refine (inner_any _ _ _ (by omega) h0 h1).mono ?_; rintro e w1 ⟨rfl, H1, hb1⟩) | (go_at_call 16; refine (awake_yes _).mono ?_; rintro e w2 ⟨rfl, hb2⟩))
  go_ret
  exact ⟨rfl, hb2⟩
theorem walk_base (t : ByteArray) (ba : Int) (a : Option Addr) (len cap : Nat) (w : World) (ht : (t.size : Int) ≤ 2000) (hl : (len : Int) ≤ 100) (hb : 1099511627776 < ba) :
    Calls Try.prog 5 #[.string t, .int .i64 ba, .slice a len cap] w fun e w' => e = .returned (.bool true) ∧ Ext w w' := by
  go_enter Try.func5, Try.ntmps5
  go_wp2_with (first | (go_at_call 25; refine (inner_any _ _ _ (by omega) h0 h1).mono ?_; rintro e w1 ⟨rfl, H1, hb1⟩) | (go_at_call 16; refine (awake_yes _).mono ?_; rintro e w2 ⟨rfl, hb2⟩))
  go_ret
  exact ⟨rfl, hb2⟩
/-- What a list of things read is: none, or in memory. -/
def IsOps (w : World) (a : Option Addr) (len cap : Nat) : Prop :=
  len = 0 ∨ ∃ (x off : Nat) (K N C : Nat → Int) (S : Nat → ByteArray), a = some ⟨x, off, none⟩ ∧ Ops w x off len K N C S
theorem isOps_of {w : World} {a : Addr} {len cap : Nat} (h : ∀ i, i < len → ∃ (k n c : Int) (s : ByteArray), w.cell? (a.add (i * 4 + 0)) = some (.int .i64 k) ∧ w.cell? (a.add (i * 4 + 1)) = some (.int .i64 n) ∧ w.cell? (a.add (i * 4 + 2)) = some (.int .i64 c) ∧ w.cell? (a.add (i * 4 + 3)) = some (.string s)) : IsOps w (some a) len cap := by
  by_cases hz : len = 0
  · exact .inl hz
  · obtain ⟨x, off, spot⟩ := a
    obtain ⟨k, n, c, s, e0, _⟩ := h 0 (by omega)
    have hspot : spot = none := by simpa [Addr.add] using World.cell?_spot e0
    subst hspot
    obtain ⟨F, hF⟩ := Go.Deep.choose_lt (α := Int × Int × Int × ByteArray) (n := len) (p := fun i q => w.cell? ⟨x, off + i * 4, none⟩ = some (.int .i64 q.1) ∧ w.cell? ⟨x, off + i * 4 + 1, none⟩ = some (.int .i64 q.2.1) ∧ w.cell? ⟨x, off + i * 4 + 2, none⟩ = some (.int .i64 q.2.2.1) ∧ w.cell? ⟨x, off + i * 4 + 3, none⟩ = some (.string q.2.2.2)) (fun i hi => by
      obtain ⟨k, n, c, s, e0, e1, e2, e3⟩ := h i hi
      rw [Go.WideShapes.add_plain] at e0 e1 e2 e3
      exact ⟨(k, n, c, s), e0, by rw [Nat.add_assoc]; exact e1, by rw [Nat.add_assoc]; exact e2, by rw [Nat.add_assoc]; exact e3⟩)
    exact .inr ⟨x, off, fun i => (F i).1, fun i => (F i).2.1, fun i => (F i).2.2.1, fun i => (F i).2.2.2, rfl, ⟨fun i hi => (hF i hi).1, fun i hi => (hF i hi).2.1, fun i hi => (hF i hi).2.2.1, fun i hi => (hF i hi).2.2.2⟩⟩
theorem walk' (t : ByteArray) (ba : Int) (a : Option Addr) (len cap : Nat) (w : World) (hO : IsOps w a len cap) :
    Calls Try.prog 5 #[.string t, .int .i64 ba, .slice a len cap] w fun e w' => e = .returned (.bool true) ∧ Ext w w' := by
  by_cases h1 : 2000 < (t.size : Int)
  · exact walk_text _ _ _ _ _ _ h1
  by_cases h2 : 100 < (len : Int)
  · exact walk_long _ _ _ _ _ _ (by omega) h2
  by_cases h3 : 1099511627776 < ba
  · exact walk_base _ _ _ _ _ _ (by omega) (by omega) h3
  rcases hO with rfl | ⟨x, off, K, N, C, S, rfl, hO⟩
  · exact walk_nil _ _ _ _ _ (by omega) (by omega)
  · by_cases h4 : 0 ≤ ba
    · exact walk_in _ _ _ _ _ _ _ _ _ _ _ hO (by omega) (by omega) h4 (by omega)
    · exact walk_low _ _ _ _ _ _ _ _ _ _ _ hO (by omega) (by omega) (by omega)

theorem walk (t : ByteArray) (ba : Int) (a : Option Addr) (len cap : Nat) {w : World} (hO : IsOps w a len cap) (W : World) (e : W = w) :
    Calls Try.prog 5 #[.string t, .int .i64 ba, .slice a len cap] W fun e w' => e = .returned (.bool true) ∧ Ext W w' := by
  subst e
  exact walk' t ba a len cap W hO
set_option maxRecDepth 100000 in
theorem lifted (os : Os) (started : os.Started) (H : Type) (enc : TypeId × Value → H) :
    ReturnsInHanded {} Try.checked os 5 .any (Rows.octetReadsSpec.pre6 enc Try.prog Try.f5 Rows.octetReadsRow.domain false) (Rows.octetReadsSpec.post enc Try.prog Try.f5 false true false false) := by
  refine returnsInHanded_of_change (C := Try.checked) own started (by kernel_rfl) Try.func5
    (ChangeSpec.witness6 (enc := enc) (C := Try.checked) false ⟨#[], #[.string ByteArray.empty, .int .i64 0, .slice none 0 0], []⟩ 8 (by kernel_rfl) (by kernel_rfl) (by kernel_rfl) (by kernel_rfl)) ?_
  intro W base args ds gs before hval0 hW hcnd _
  have hval : ∀ (j : Nat) t v, Try.f5.params[j]? = some t → args[j]? = some v → Value.okWide Try.prog W .any base t v := hval0
  have hW' := hW
  obtain ⟨p, q, hA0, hV, rfl, hfz, hnd⟩ := hW
  have hA : DataW.TrodAll enc Try.prog W 0 (fun _ => true) true Try.f5.params.toList args.toList ds p := hA0
  rw [Try.params5] at hA hval
  obtain ⟨v0, vs0, d0, ds0, p0, q0, hargs, rfl, rfl, h0, r0⟩ := trodAll_cons hA
  obtain ⟨v1, vs1, d1, ds1, p1, q1, rfl, rfl, rfl, h1, r1⟩ := trodAll_cons r0
  obtain ⟨v2, vs2, d2, ds2, p2, q2, rfl, rfl, rfl, h2, r2⟩ := trodAll_cons r1
  obtain ⟨rfl, rfl, rfl⟩ := trodAll_nil r2
  obtain rfl : args = #[v0, v1, v2] := by cases args; simp_all
  obtain ⟨rfl, rfl⟩ := trodVars_none hV
  obtain ⟨a0, rfl, rfl, rfl, w0⟩ := open_string Try.underlying9 (hval 0 9 v0 rfl rfl) h0
  obtain ⟨a1, rfl, rfl, rfl, w1⟩ := open_int Try.underlying3 (hval 1 3 v1 rfl rfl) h1
  obtain ⟨a2, len2, cap2, rfl⟩ := okWide_slice Try.underlying40 (hval 2 40 v2 rfl rfl)
  have k2 := h2
  have lt2 : ∀ x ∈ p2, x.block < W.heap.size := by obtain ⟨m, hm⟩ := k2; exact DataW.trod_lt m _ _ _ hm
  have w2 : IsOps W a2 len2 cap2 := by
    obtain ⟨fuel, hf⟩ := h2
    rcases Go.Deep.open_slice Try.underlying40 hf with ⟨hcs, _⟩ | ⟨x, len', cap', m, nn, D, Pl, hcs, _, hl, hm, hmm, hx, hi⟩
    · simp [Value.cells] at hcs
      obtain ⟨rfl, rfl, rfl⟩ := hcs
      exact .inl rfl
    · simp [Value.cells] at hcs
      obtain ⟨rfl, rfl, rfl⟩ := hcs
      exact isOps_of (fun i hil => by
        have c45 : Try.prog.cellsOf 45 = 4 := by kernel_rfl
        have him : i < m := by rw [hmm]; split <;> omega
        obtain ⟨cs', hc, ht'⟩ := hi i him
        rw [c45] at hc
        obtain ⟨_, hcl, hat⟩ := World.cells?_some hc
        obtain ⟨k0, k1, k2, k3, rfl⟩ := op_read hcl ht'
        have e0 := hat 0 (by omega)
        have e1 := hat 1 (by omega)
        have e2 := hat 2 (by omega)
        have e3 := hat 3 (by omega)
        rw [Go.Deep.add_add] at e0 e1 e2 e3
        exact ⟨k0, k1, k2, k3, e0, e1, e2, e3⟩)
  clear hA0 hval0
  refine (walk a0 a1 a2 len2 cap2 w2 W rfl).mono fun e W' ⟨he, bel⟩ => ?_
  subst he
  exact ⟨_, rfl, _, _, _, [], _, [], hW', trodAll_mk1 (shut_bool Try.underlying4 _), (trodAll_cons_mk (shut_string Try.underlying9 w0) (trodAll_cons_mk (shut_int Try.underlying3 w1) (trodAll_cons_mk (Below.trod laidOut (by kernel_rfl) (of_decide_eq_true (by kernel_rfl)) k2 bel lt2) trodAll_mk0))), rfl, bel.frame _, fun h => by cases h⟩

theorem over : Rows.octetReadsRow.holds Try.pinned (OpenSpec.ofChange Rows.octetReadsSpec) :=
  OpenClaim.holds_of_wide 5 Try.f5 rfl rfl rfl rfl rfl rfl rfl ⟨rfl, rfl, rfl, rfl, rfl⟩ rfl rfl rfl rfl rfl (by kernel_rfl) Try.func5 (by kernel_rfl)
    (of_decide_eq_true (by kernel_rfl)) (by unfold Func.isWrapper; first | (rw [if_pos (by decide +kernel)]; kernel_rfl) | (rw [if_neg (by decide +kernel)]; exact ⟨rfl, rfl⟩))
    (fun os started H enc _ => lifted os started H enc)

/-- THE STATEMENT. -/
theorem proved : Rows.OctetReadsSaid := over
#print axioms proved

end Go.Proofs.Ytdegnjbpjffgmaa.octetReads
