/-
  What the proof of this claim leans on (S11).
-/
import Derived.Test.YtndopjmdpmkgeaaGreatDoorS3
import Derived.Deep.RegionWith
import Derived.IntWalk
import Derived.StillTailTactics
namespace Go.Proofs.YtndopjmdpmkgeaaGreatDoor
open Go.ChangeShapes Go.WideShapes Go.ChangeAt Go.RowKit
set_option linter.unusedSimpArgs false
set_option linter.unusedVariables false

theorem Rdr.setRead {w : World} {b : Nat} {t : ByteArray} {r : Nat} {ba er pl : Int} (h : Rdr w b t r ba er pl) (q : Nat) (hq : q ≤ t.size) (v : Int) (hv : v = q) : Rdr (w.setCell ⟨b, 1, none⟩ (.int .i64 v)) b t q ba er pl := by
  subst hv
  have hlt := h.lt
  have h' : w.heap[b] = rdr t r ba er pl := by simpa [Array.getElem?_eq_getElem hlt] using h.here
  refine ⟨?_, hq, h.small, h.lo, h.hi⟩
  show (w.heap.modify b _)[b]? = _
  rw [Array.getElem?_eq_getElem (by simpa using hlt), Array.getElem_modify_self, h']
  rfl
theorem Rdr.setFault {w : World} {b : Nat} {t : ByteArray} {r : Nat} {ba er pl : Int} (h : Rdr w b t r ba er pl) (c n : Int) : Rdr ((w.setCell ⟨b, 3, none⟩ (.int .i64 c)).setCell ⟨b, 4, none⟩ (.int .i64 n)) b t r ba c n := by
  have hlt := h.lt
  have h' : w.heap[b] = rdr t r ba er pl := by simpa [Array.getElem?_eq_getElem hlt] using h.here
  have hm : (w.setCell ⟨b, 3, none⟩ (.int .i64 c)).heap[b]? = some (rdr t r ba c pl) := by
    show (w.heap.modify b _)[b]? = _
    rw [Array.getElem?_eq_getElem (by simpa using hlt), Array.getElem_modify_self, h']
    rfl
  have hlt2 : b < (w.setCell ⟨b, 3, none⟩ (.int .i64 c)).heap.size := lt_of_block hm
  have hm' : (w.setCell ⟨b, 3, none⟩ (.int .i64 c)).heap[b] = rdr t r ba c pl := by simpa [Array.getElem?_eq_getElem hlt2] using hm
  refine ⟨?_, h.le, h.small, h.lo, h.hi⟩
  show ((w.setCell ⟨b, 3, none⟩ (.int .i64 c)).heap.modify b _)[b]? = _
  rw [Array.getElem?_eq_getElem (by simpa using hlt2), Array.getElem_modify_self, hm']
  rfl
theorem Rdr.drew {w : World} {b : Nat} {t : ByteArray} {r : Nat} {ba er pl : Int} (h : Rdr w b t r ba er pl) : Rdr w.drew b t r ba er pl := ⟨h.here, h.le, h.small, h.lo, h.hi⟩
theorem Rdr.drewN {w : World} {b : Nat} {t : ByteArray} {r : Nat} {ba er pl : Int} (h : Rdr w b t r ba er pl) (n : Nat) : Rdr (w.drewN n) b t r ba er pl := ⟨h.here, h.le, h.small, h.lo, h.hi⟩

theorem width_in (s : Int) (w : World) (h0 : 0 ≤ s) (h : s ≤ 8) : Calls Tryz.prog 175 #[.int .i64 s] w fun e w' => e = .returned (.int .i64 s) ∧ w = w' := by
  go_enter Tryz.func175, Tryz.ntmps175
  go_wp2
  go_ret
  exact ⟨by first | (simp; done) | (simp; omega), rfl⟩
theorem width_low (s : Int) (w : World) (h0 : s < 0) : Calls Tryz.prog 175 #[.int .i64 s] w fun e w' => e = .returned (.int .i64 0) ∧ w = w' := by
  go_enter Tryz.func175, Tryz.ntmps175
  go_wp2
  go_ret
  exact ⟨by first | (simp; done) | (simp; omega), rfl⟩
theorem width_high (s : Int) (w : World) (h0 : 8 < s) : Calls Tryz.prog 175 #[.int .i64 s] w fun e w' => e = .returned (.int .i64 8) ∧ w = w' := by
  go_enter Tryz.func175, Tryz.ntmps175
  go_wp2
  go_ret
  exact ⟨by first | (simp; done) | (simp; omega), rfl⟩
theorem inner_any (t : ByteArray) (ba : Int) (w : World) (h : t.size ≤ 1099511627776) (h0 : 0 ≤ ba) (h1 : ba ≤ 1099511627776) : Calls Tryz.prog 118 #[.string t, .int .i64 ba] w fun e w' => e = .returned (.pointer (some ⟨w.heap.size, 0, none⟩)) ∧ Rdr w' w.heap.size t 0 ba 0 0 ∧ Ext w w' := by
  have hmx : max ba 0 = ba := by omega
  go_enter Tryz.func118, Tryz.ntmps118
  go_wp2
  go_ret
  exact ⟨rfl, ⟨heap_alloc_new w _, Nat.zero_le _, h, h0, h1⟩, (Ext.refl w).alloc _⟩
theorem read_any (t : ByteArray) (w : World) (h : t.size ≤ 1099511627776) : Calls Tryz.prog 69 #[.string t] w fun e w' => e = .returned (.pointer (some ⟨w.heap.size, 0, none⟩)) ∧ Rdr w' w.heap.size t 0 0 0 0 ∧ Ext w w' := by
  go_enter Tryz.func69, Tryz.ntmps69
  go_wp2_with (go_at_call 118; refine (inner_any _ _ _ h (by decide) (by decide)).mono ?_; rintro e w1 ⟨rfl, H1, hb1⟩)
  go_ret
  exact ⟨rfl, H1, hb1⟩
theorem left_ok (w : World) (b : Nat) (t : ByteArray) (r : Nat) (ba pl : Int) (H : Rdr w b t r ba 0 pl) : Calls Tryz.prog 115 #[.pointer (some ⟨b, 0, none⟩)] w fun e w' => e = .returned (.int .i64 (t.size - r)) ∧ Ext w w' := by
  have hle := H.le
  have hsm := H.small
  go_enter Tryz.func115, Tryz.ntmps115
  go_wp2_with (first | (go_at_call 117; refine (fault_at _ _ _ _ _ _ _ H).mono ?_; rintro e w1 ⟨rfl, hb1⟩; have H1 := H.ext hb1) | (go_at_call 24; refine (bad_no _ _ _ (by decide)).mono ?_; rintro e w2 ⟨rfl, hb2⟩; have hb12 := hb1.trans hb2; have H2 := H1.ext hb2; clear hb1 hb2 H1))
  obtain ⟨c0, c1, c2, c3, c4⟩ := H2.cells
  clear c2 c3 c4
  go_quiet (fail)
  go_wp2
  go_ret
  exact ⟨rfl, hb12.drewN _⟩
theorem left_bad (w : World) (b : Nat) (t : ByteArray) (r : Nat) (ba er pl : Int) (H : Rdr w b t r ba er pl) (he : (er != 0) = true) : Calls Tryz.prog 115 #[.pointer (some ⟨b, 0, none⟩)] w fun e w' => e = .returned (.int .i64 0) ∧ Ext w w' := by
  go_enter Tryz.func115, Tryz.ntmps115
  go_wp2_with (first | (go_at_call 117; refine (fault_at _ _ _ _ _ _ _ H).mono ?_; rintro e w1 ⟨rfl, hb1⟩; have H1 := H.ext hb1) | (go_at_call 24; refine (bad_yes _ _ _ he).mono ?_; rintro e w2 ⟨rfl, hb2⟩; have hb12 := hb1.trans hb2; have H2 := H1.ext hb2; clear hb1 hb2 H1))
  go_ret
  exact ⟨rfl, (by repeat (first | assumption | exact Ext.refl _ | apply Ext.drewN | apply Ext.drew | refine Ext.alloc ?_ _))⟩
theorem at_any (w : World) (b : Nat) (t : ByteArray) (r : Nat) (ba er pl : Int) (H : Rdr w b t r ba er pl) : Calls Tryz.prog 153 #[.pointer (some ⟨b, 0, none⟩)] w fun e w' => e = .returned (.int .i64 (ba + r)) ∧ Ext w w' := by
  have hle := H.le
  have hsm := H.small
  have h0 := H.lo
  have h1 := H.hi
  obtain ⟨c0, c1, c2, c3, c4⟩ := H.cells
  clear c0 c3 c4
  go_enter Tryz.func153, Tryz.ntmps153
  go_wp2
  go_quiet (fail)
  go_wp2
  go_ret
  exact ⟨rfl, (Ext.refl _).drewN _⟩
theorem fail_ok (c n : Int) (w : World) (b : Nat) (t : ByteArray) (r : Nat) (ba pl : Int) (H : Rdr w b t r ba 0 pl) (hc : (c == 0) = false) : Calls Tryz.prog 156 #[.pointer (some ⟨b, 0, none⟩), .int .i64 c, .int .i64 n] w fun e w' => e = .returned (.tuple #[]) ∧ Rdr w' b t r ba c n ∧ Mod b w w' := by
  go_enter Tryz.func156, Tryz.ntmps156
  go_wp2_with (first | (go_at_call 117; refine (fault_at _ _ _ _ _ _ _ H).mono ?_; rintro e w1 ⟨rfl, hb1⟩; have H1 := H.ext hb1) | (go_at_call 24; refine (bad_no _ _ _ (by decide)).mono ?_; rintro e w2 ⟨rfl, hb2⟩; have hb12 := hb1.trans hb2; have H2 := H1.ext hb2; clear hb1 hb2 H1; have f3 := H2.free 3; have f4 := H2.free 4; obtain ⟨c0, c1, c2, c3, c4⟩ := H2.cells; clear c0 c1 c2))
  go_end0
  exact ⟨rfl, H2.setFault c n, ((Mod.of hb12).setCell _ _).setCell _ _⟩
theorem take_ok (n : Int) (w : World) (b : Nat) (t : ByteArray) (r : Nat) (ba pl : Int) (H : Rdr w b t r ba 0 pl) (hn0 : 0 ≤ n) (hn : n ≤ t.size - r) : Calls Tryz.prog 212 #[.pointer (some ⟨b, 0, none⟩), .int .i64 n] w fun e w' => e = .returned (.string (t.extract r (r + n.toNat))) ∧ Rdr w' b t (r + n.toNat) ba 0 pl ∧ Mod b w w' := by
  obtain ⟨n, rfl⟩ := Int.eq_ofNat_of_zero_le hn0
  rw [Int.toNat_natCast]
  have hle := H.le
  have hsm := H.small
  have h0 := H.lo
  have h1 := H.hi
  go_enter Tryz.func212, Tryz.ntmps212
  go_wp2_with (first | (go_at_call 117; refine (fault_at _ _ _ _ _ _ _ H).mono ?_; rintro e w1 ⟨rfl, hb1⟩; have H1 := H.ext hb1) | (go_at_call 24; refine (bad_no _ _ _ (by decide)).mono ?_; rintro e w2 ⟨rfl, hb2⟩; have hb12 := hb1.trans hb2; have H2 := H1.ext hb2; clear hb1 hb2 H1) | (go_at_call 115; refine (left_ok _ _ _ _ _ _ H2).mono ?_; rintro e w4 ⟨rfl, hb4⟩; have hb14 := hb12.trans hb4; have H4 := H2.ext hb4; clear hb12 hb4 H2; have f1 := H4.free 1; obtain ⟨c0, c1, c2, c3, c4⟩ := H4.cells; clear c2 c3 c4))
  have e1 : (0 : Int) ≤ r := by omega
  have e2 : (r : Int) ≤ r + n := by omega
  have e3 : (r : Int) + n ≤ t.size := by omega
  have e4 : ((r : Int) + n).toNat = r + n := by omega
  go_quiet (fail)
  go_wp2
  go_ret
  exact ⟨rfl, (H4.setRead (r + n) (by omega) _ (by omega)).drewN _, ((Mod.of hb14).setCell _ _).drewN _⟩
end Go.Proofs.YtndopjmdpmkgeaaGreatDoor

