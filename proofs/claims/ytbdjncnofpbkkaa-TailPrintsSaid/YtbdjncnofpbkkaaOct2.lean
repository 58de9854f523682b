/-
  Contracts of the readers' functions of package octet (2): readers in a known block.
-/
import Derived.Test.YtbdjncnofpbkkaaOct1
import Derived.StillTailTactics
import Derived.Deep.RegionWith
import Derived.IntWalk
namespace Go.Proofs.Ytbdjncnofpbkkaa
open Go.ChangeShapes Go.WideShapes Go.ChangeAt Go.RowKit
set_option linter.unusedSimpArgs false
set_option linter.unusedVariables false

theorem Rdr.setRead {w : World} {b : Nat} {t : ByteArray} {r : Nat} {ba er pl : Int} (h : Rdr w b t r ba er pl) (q : Nat) (hq : q ≤ t.size) (v : Int) (hv : v = q) : Rdr (w.setCell ⟨b, 1, none⟩ (.int .i64 v)) b t q ba er pl := by
  subst hv
  have hlt := h.lt
  have h' : w.heap[b] = rdr t r ba er pl := by simpa [Array.getElem?_eq_getElem hlt] using h.here
  refine ⟨?_, hq, h.small, h.lo, h.hi⟩
  show (w.heap.modify b _)[b]? = _
  rw [Array.getElem?_eq_getElem (by simpa using hlt), Array.getElem_modify_self, h']
  rfl
theorem Rdr.setFault {w : World} {b : Nat} {t : ByteArray} {r : Nat} {ba er pl : Int} (h : Rdr w b t r ba er pl) (c n : Int) : Rdr ((w.setCell ⟨b, 3, none⟩ (.int .i64 c)).setCell ⟨b, 4, none⟩ (.int .i64 n)) b t r ba c n := by
  have hlt := h.lt
  have h' : w.heap[b] = rdr t r ba er pl := by simpa [Array.getElem?_eq_getElem hlt] using h.here
  have hm : (w.setCell ⟨b, 3, none⟩ (.int .i64 c)).heap[b]? = some (rdr t r ba c pl) := by
    show (w.heap.modify b _)[b]? = _
    rw [Array.getElem?_eq_getElem (by simpa using hlt), Array.getElem_modify_self, h']
    rfl
  have hlt2 : b < (w.setCell ⟨b, 3, none⟩ (.int .i64 c)).heap.size := lt_of_block hm
  have hm' : (w.setCell ⟨b, 3, none⟩ (.int .i64 c)).heap[b] = rdr t r ba c pl := by simpa [Array.getElem?_eq_getElem hlt2] using hm
  refine ⟨?_, h.le, h.small, h.lo, h.hi⟩
  show ((w.setCell ⟨b, 3, none⟩ (.int .i64 c)).heap.modify b _)[b]? = _
  rw [Array.getElem?_eq_getElem (by simpa using hlt2), Array.getElem_modify_self, hm']
  rfl
theorem Rdr.drew {w : World} {b : Nat} {t : ByteArray} {r : Nat} {ba er pl : Int} (h : Rdr w b t r ba er pl) : Rdr w.drew b t r ba er pl := ⟨h.here, h.le, h.small, h.lo, h.hi⟩
theorem Rdr.drewN {w : World} {b : Nat} {t : ByteArray} {r : Nat} {ba er pl : Int} (h : Rdr w b t r ba er pl) (n : Nat) : Rdr (w.drewN n) b t r ba er pl := ⟨h.here, h.le, h.small, h.lo, h.hi⟩

theorem width_in (s : Int) (w : World) (h0 : 0 ≤ s) (h : s ≤ 8) : Calls Try.prog 55 #[.int .i64 s] w fun e w' => e = .returned (.int .i64 s) ∧ w = w' := by
  go_enter Try.func55, Try.ntmps55
  go_wp2
  go_ret
  exact ⟨by first | (simp; done) | (simp; omega), rfl⟩
theorem width_low (s : Int) (w : World) (h0 : s < 0) : Calls Try.prog 55 #[.int .i64 s] w fun e w' => e = .returned (.int .i64 0) ∧ w = w' := by
  go_enter Try.func55, Try.ntmps55
  go_wp2
  go_ret
  exact ⟨by first | (simp; done) | (simp; omega), rfl⟩
theorem width_high (s : Int) (w : World) (h0 : 8 < s) : Calls Try.prog 55 #[.int .i64 s] w fun e w' => e = .returned (.int .i64 8) ∧ w = w' := by
  go_enter Try.func55, Try.ntmps55
  go_wp2
  go_ret
  exact ⟨by first | (simp; done) | (simp; omega), rfl⟩
theorem inner_any (t : ByteArray) (ba : Int) (w : World) (h : t.size ≤ 1099511627776) (h0 : 0 ≤ ba) (h1 : ba ≤ 1099511627776) : Calls Try.prog 47 #[.string t, .int .i64 ba] w fun e w' => e = .returned (.pointer (some ⟨w.heap.size, 0, none⟩)) ∧ Rdr w' w.heap.size t 0 ba 0 0 ∧ Ext w w' := by
  have hmx : max ba 0 = ba := by omega
  go_enter Try.func47, Try.ntmps47
  go_wp2
  go_ret
  exact ⟨rfl, ⟨heap_alloc_new w _, Nat.zero_le _, h, h0, h1⟩, (Ext.refl w).alloc _⟩
theorem read_any (t : ByteArray) (w : World) (h : t.size ≤ 1099511627776) : Calls Try.prog 31 #[.string t] w fun e w' => e = .returned (.pointer (some ⟨w.heap.size, 0, none⟩)) ∧ Rdr w' w.heap.size t 0 0 0 0 ∧ Ext w w' := by
  go_enter Try.func31, Try.ntmps31
  go_wp2_with (go_at_call 47; refine (inner_any _ _ _ h (by decide) (by decide)).mono ?_; rintro e w1 ⟨rfl, H1, hb1⟩)
  go_ret
  exact ⟨rfl, H1, hb1⟩
theorem left_ok (w : World) (b : Nat) (t : ByteArray) (r : Nat) (ba pl : Int) (H : Rdr w b t r ba 0 pl) : Calls Try.prog 52 #[.pointer (some ⟨b, 0, none⟩)] w fun e w' => e = .returned (.int .i64 (t.size - r)) ∧ Ext w w' := by
  have hle := H.le
  have hsm := H.small
  go_enter Try.func52, Try.ntmps52
  go_wp2_with (first | (go_at_call 51; refine (fault_at _ _ _ _ _ _ _ H).mono ?_; rintro e w1 ⟨rfl, hb1⟩; have H1 := H.ext hb1) | (go_at_call 26; refine (bad_no _ _ _ (by decide)).mono ?_; rintro e w2 ⟨rfl, hb2⟩; have hb12 := hb1.trans hb2; have H2 := H1.ext hb2; clear hb1 hb2 H1))
  obtain ⟨c0, c1, c2, c3, c4⟩ := H2.cells
  clear c2 c3 c4
  go_quiet (fail)
  go_wp2
  go_ret
  exact ⟨rfl, hb12.drewN _⟩
theorem left_bad (w : World) (b : Nat) (t : ByteArray) (r : Nat) (ba er pl : Int) (H : Rdr w b t r ba er pl) (he : (er != 0) = true) : Calls Try.prog 52 #[.pointer (some ⟨b, 0, none⟩)] w fun e w' => e = .returned (.int .i64 0) ∧ Ext w w' := by
  go_enter Try.func52, Try.ntmps52
  go_wp2_with (first | (go_at_call 51; refine (fault_at _ _ _ _ _ _ _ H).mono ?_; rintro e w1 ⟨rfl, hb1⟩; have H1 := H.ext hb1) | (go_at_call 26; refine (bad_yes _ _ _ he).mono ?_; rintro e w2 ⟨rfl, hb2⟩; have hb12 := hb1.trans hb2; have H2 := H1.ext hb2; clear hb1 hb2 H1))
  go_ret
  exact ⟨rfl, (by repeat (first | assumption | exact Ext.refl _ | apply Ext.drewN | apply Ext.drew | refine Ext.alloc ?_ _))⟩
theorem at_any (w : World) (b : Nat) (t : ByteArray) (r : Nat) (ba er pl : Int) (H : Rdr w b t r ba er pl) : Calls Try.prog 50 #[.pointer (some ⟨b, 0, none⟩)] w fun e w' => e = .returned (.int .i64 (ba + r)) ∧ Ext w w' := by
  have hle := H.le
  have hsm := H.small
  have h0 := H.lo
  have h1 := H.hi
  obtain ⟨c0, c1, c2, c3, c4⟩ := H.cells
  clear c0 c3 c4
  go_enter Try.func50, Try.ntmps50
  go_wp2
  go_quiet (fail)
  go_wp2
  go_ret
  exact ⟨rfl, (Ext.refl _).drewN _⟩
theorem fail_ok (c n : Int) (w : World) (b : Nat) (t : ByteArray) (r : Nat) (ba pl : Int) (H : Rdr w b t r ba 0 pl) (hc : (c == 0) = false) : Calls Try.prog 49 #[.pointer (some ⟨b, 0, none⟩), .int .i64 c, .int .i64 n] w fun e w' => e = .returned (.tuple #[]) ∧ Rdr w' b t r ba c n ∧ Mod b w w' := by
  go_enter Try.func49, Try.ntmps49
  go_wp2_with (first | (go_at_call 51; refine (fault_at _ _ _ _ _ _ _ H).mono ?_; rintro e w1 ⟨rfl, hb1⟩; have H1 := H.ext hb1) | (go_at_call 26; refine (bad_no _ _ _ (by decide)).mono ?_; rintro e w2 ⟨rfl, hb2⟩; have hb12 := hb1.trans hb2; have H2 := H1.ext hb2; clear hb1 hb2 H1; have f3 := H2.free 3; have f4 := H2.free 4; obtain ⟨c0, c1, c2, c3, c4⟩ := H2.cells; clear c0 c1 c2))
  go_end0
  exact ⟨rfl, H2.setFault c n, ((Mod.of hb12).setCell _ _).setCell _ _⟩
set_option maxRecDepth 100000 in
theorem short_ok (w : World) (b : Nat) (t : ByteArray) (r : Nat) (ba pl : Int) (H : Rdr w b t r ba 0 pl) : Calls Try.prog 53 #[.pointer (some ⟨b, 0, none⟩)] w fun e w' => e = .returned (.tuple #[]) ∧ Rdr w' b t r ba 1 (ba + t.size) ∧ Mod b w w' := by
  have hle := H.le
  have hsm := H.small
  have h0 := H.lo
  have h1 := H.hi
  obtain ⟨c0, c1, c2, c3, c4⟩ := H.cells
  clear c1 c3 c4
  go_enter Try.func53, Try.ntmps53
  go_wp2
  have hw : IntKind.i64.wrap (ba + ↑t.size) = ba + ↑t.size := IntWalk.i64_in _ (by omega)
  go_still_tail 11, (by kernel_rfl)
  clear hw
  change wpList _ _ _ _ _ w.drew
  have HD := H.drew
  go_wp2_with (go_at_call 49; refine (fail_ok _ _ _ _ _ _ _ _ HD (by decide)).mono ?_; rintro e w1 ⟨rfl, H1, hm⟩)
  go_end0
  exact ⟨rfl, H1, (Mod.of ((Ext.refl w).drew)).trans hm⟩
theorem take_bad (n : Int) (w : World) (b : Nat) (t : ByteArray) (r : Nat) (ba er pl : Int) (H : Rdr w b t r ba er pl) (he : (er != 0) = true) : Calls Try.prog 34 #[.pointer (some ⟨b, 0, none⟩), .int .i64 n] w fun e w' => e = .returned (.string ⟨#[]⟩) ∧ Ext w w' := by
  go_enter Try.func34, Try.ntmps34
  go_wp2_with (first | (go_at_call 51; refine (fault_at _ _ _ _ _ _ _ H).mono ?_; rintro e w1 ⟨rfl, hb1⟩; have H1 := H.ext hb1) | (go_at_call 26; refine (bad_yes _ _ _ he).mono ?_; rintro e w2 ⟨rfl, hb2⟩; have hb12 := hb1.trans hb2; have H2 := H1.ext hb2; clear hb1 hb2 H1))
  go_ret
  exact ⟨rfl, (by repeat (first | assumption | exact Ext.refl _ | apply Ext.drewN | apply Ext.drew | refine Ext.alloc ?_ _))⟩
theorem take_low (n : Int) (w : World) (b : Nat) (t : ByteArray) (r : Nat) (ba pl : Int) (H : Rdr w b t r ba 0 pl) (hn : n < 0) : Calls Try.prog 34 #[.pointer (some ⟨b, 0, none⟩), .int .i64 n] w fun e w' => e = .returned (.string ⟨#[]⟩) ∧ Rdr w' b t r ba 1 (ba + t.size) ∧ Mod b w w' := by
  go_enter Try.func34, Try.ntmps34
  go_wp2_with (first | (go_at_call 51; refine (fault_at _ _ _ _ _ _ _ H).mono ?_; rintro e w1 ⟨rfl, hb1⟩; have H1 := H.ext hb1) | (go_at_call 26; refine (bad_no _ _ _ (by decide)).mono ?_; rintro e w2 ⟨rfl, hb2⟩; have hb12 := hb1.trans hb2; have H2 := H1.ext hb2; clear hb1 hb2 H1) | (go_at_call 53; refine (short_ok _ _ _ _ _ _ H2).mono ?_; rintro e w3 ⟨rfl, H3, hm⟩))
  go_ret
  exact ⟨rfl, H3, (Mod.of hb12).trans hm⟩
theorem take_short (n : Int) (w : World) (b : Nat) (t : ByteArray) (r : Nat) (ba pl : Int) (H : Rdr w b t r ba 0 pl) (hn0 : 0 ≤ n) (hn : (t.size : Int) - r < n) : Calls Try.prog 34 #[.pointer (some ⟨b, 0, none⟩), .int .i64 n] w fun e w' => e = .returned (.string ⟨#[]⟩) ∧ Rdr w' b t r ba 1 (ba + t.size) ∧ Mod b w w' := by
  go_enter Try.func34, Try.ntmps34
  go_wp2_with (first | (go_at_call 51; refine (fault_at _ _ _ _ _ _ _ H).mono ?_; rintro e w1 ⟨rfl, hb1⟩; have H1 := H.ext hb1) | (go_at_call 26; refine (bad_no _ _ _ (by decide)).mono ?_; rintro e w2 ⟨rfl, hb2⟩; have hb12 := hb1.trans hb2; have H2 := H1.ext hb2; clear hb1 hb2 H1) | (go_at_call 52; refine (left_ok _ _ _ _ _ _ H2).mono ?_; rintro e w4 ⟨rfl, hb4⟩; have hb14 := hb12.trans hb4; have H4 := H2.ext hb4; clear hb12 hb4 H2) | (go_at_call 53; refine (short_ok _ _ _ _ _ _ H4).mono ?_; rintro e w3 ⟨rfl, H3, hm⟩))
  go_ret
  exact ⟨rfl, H3, (Mod.of hb14).trans hm⟩
theorem take_ok (n : Int) (w : World) (b : Nat) (t : ByteArray) (r : Nat) (ba pl : Int) (H : Rdr w b t r ba 0 pl) (hn0 : 0 ≤ n) (hn : n ≤ t.size - r) : Calls Try.prog 34 #[.pointer (some ⟨b, 0, none⟩), .int .i64 n] w fun e w' => e = .returned (.string (t.extract r (r + n.toNat))) ∧ Rdr w' b t (r + n.toNat) ba 0 pl ∧ Mod b w w' := by
  obtain ⟨n, rfl⟩ := Int.eq_ofNat_of_zero_le hn0
  rw [Int.toNat_natCast]
  have hle := H.le
  have hsm := H.small
  have h0 := H.lo
  have h1 := H.hi
  go_enter Try.func34, Try.ntmps34
  go_wp2_with (first | (go_at_call 51; refine (fault_at _ _ _ _ _ _ _ H).mono ?_; rintro e w1 ⟨rfl, hb1⟩; have H1 := H.ext hb1) | (go_at_call 26; refine (bad_no _ _ _ (by decide)).mono ?_; rintro e w2 ⟨rfl, hb2⟩; have hb12 := hb1.trans hb2; have H2 := H1.ext hb2; clear hb1 hb2 H1) | (go_at_call 52; refine (left_ok _ _ _ _ _ _ H2).mono ?_; rintro e w4 ⟨rfl, hb4⟩; have hb14 := hb12.trans hb4; have H4 := H2.ext hb4; clear hb12 hb4 H2; have f1 := H4.free 1; obtain ⟨c0, c1, c2, c3, c4⟩ := H4.cells; clear c2 c3 c4))
  have e1 : (0 : Int) ≤ r := by omega
  have e2 : (r : Int) ≤ r + n := by omega
  have e3 : (r : Int) + n ≤ t.size := by omega
  have e4 : ((r : Int) + n).toNat = r + n := by omega
  go_quiet (fail)
  go_wp2
  go_ret
  exact ⟨rfl, (H4.setRead (r + n) (by omega) _ (by omega)).drewN _, ((Mod.of hb14).setCell _ _).drewN _⟩
/-- How many bytes Peek shows. -/
def shown (n left : Int) : Int := min (max n 0) left
theorem shown_ge {n left : Int} (h : 0 ≤ left) : 0 ≤ shown n left := by unfold shown; omega
theorem shown_le {n left : Int} : shown n left ≤ left := by unfold shown; omega
theorem peek_low (n : Int) (w : World) (b : Nat) (t : ByteArray) (r : Nat) (ba pl : Int) (H : Rdr w b t r ba 0 pl) (hn : n < 0) : Calls Try.prog 48 #[.pointer (some ⟨b, 0, none⟩), .int .i64 n] w fun e w' => e = .returned (.string (t.extract r r)) ∧ Ext w w' := by
  have hle := H.le
  have hsm := H.small
  have h0 := H.lo
  have h1 := H.hi
  have hl0 : ¬ (t.size : Int) - r < 0 := by omega
  have e1 : (0 : Int) ≤ r := by omega
  have e3 : (r : Int) ≤ t.size := by omega
  have m1 : max n 0 = 0 := by omega
  have m2 : min (0 : Int) ((t.size : Int) - r) = 0 := by omega
  go_enter Try.func48, Try.ntmps48
  go_wp2_with (first | (go_at_call 51; refine (fault_at _ _ _ _ _ _ _ H).mono ?_; rintro e w1 ⟨rfl, hb1⟩; have H1 := H.ext hb1) | (go_at_call 26; refine (bad_no _ _ _ (by decide)).mono ?_; rintro e w2 ⟨rfl, hb2⟩; have hb12 := hb1.trans hb2; have H2 := H1.ext hb2; clear hb1 hb2 H1) | (go_at_call 52; refine (left_ok _ _ _ _ _ _ H2).mono ?_; rintro e w4 ⟨rfl, hb4⟩; have hb14 := hb12.trans hb4; have H4 := H2.ext hb4; clear hb12 hb4 H2; have f1 := H4.free 1; obtain ⟨c0, c1, c2, c3, c4⟩ := H4.cells; clear c2 c3 c4))
  go_quiet (fail)
  go_wp2
  go_ret
  exact ⟨by simp, hb14.drewN _⟩
theorem peek_in (n : Int) (w : World) (b : Nat) (t : ByteArray) (r : Nat) (ba pl : Int) (H : Rdr w b t r ba 0 pl) (hn0 : 0 ≤ n) (hn : n ≤ t.size - r) : Calls Try.prog 48 #[.pointer (some ⟨b, 0, none⟩), .int .i64 n] w fun e w' => e = .returned (.string (t.extract r (r + n.toNat))) ∧ Ext w w' := by
  have hle := H.le
  have hsm := H.small
  have h0 := H.lo
  have h1 := H.hi
  have e1 : (0 : Int) ≤ r := by omega
  have e2 : (r : Int) ≤ r + n := by omega
  have e3 : (r : Int) + n ≤ t.size := by omega
  have e4 : ((r : Int) + n).toNat = r + n.toNat := by omega
  have m1 : max n 0 = n := by omega
  have m2 : min n ((t.size : Int) - r) = n := by omega
  go_enter Try.func48, Try.ntmps48
  go_wp2_with (first | (go_at_call 51; refine (fault_at _ _ _ _ _ _ _ H).mono ?_; rintro e w1 ⟨rfl, hb1⟩; have H1 := H.ext hb1) | (go_at_call 26; refine (bad_no _ _ _ (by decide)).mono ?_; rintro e w2 ⟨rfl, hb2⟩; have hb12 := hb1.trans hb2; have H2 := H1.ext hb2; clear hb1 hb2 H1) | (go_at_call 52; refine (left_ok _ _ _ _ _ _ H2).mono ?_; rintro e w4 ⟨rfl, hb4⟩; have hb14 := hb12.trans hb4; have H4 := H2.ext hb4; clear hb12 hb4 H2; have f1 := H4.free 1; obtain ⟨c0, c1, c2, c3, c4⟩ := H4.cells; clear c2 c3 c4))
  go_quiet (fail)
  go_wp2
  go_ret
  exact ⟨rfl, hb14.drewN _⟩
theorem peek_over (n : Int) (w : World) (b : Nat) (t : ByteArray) (r : Nat) (ba pl : Int) (H : Rdr w b t r ba 0 pl) (hn : (t.size : Int) - r < n) : Calls Try.prog 48 #[.pointer (some ⟨b, 0, none⟩), .int .i64 n] w fun e w' => e = .returned (.string (t.extract r t.size)) ∧ Ext w w' := by
  have hle := H.le
  have hsm := H.small
  have h0 := H.lo
  have h1 := H.hi
  have hn0 : 0 ≤ n := by omega
  have e1 : (0 : Int) ≤ r := by omega
  have e2 : (r : Int) ≤ t.size := by omega
  have m1 : max n 0 = n := by omega
  have m2 : min n ((t.size : Int) - r) = (t.size : Int) - r := by omega
  go_enter Try.func48, Try.ntmps48
  go_wp2_with (first | (go_at_call 51; refine (fault_at _ _ _ _ _ _ _ H).mono ?_; rintro e w1 ⟨rfl, hb1⟩; have H1 := H.ext hb1) | (go_at_call 26; refine (bad_no _ _ _ (by decide)).mono ?_; rintro e w2 ⟨rfl, hb2⟩; have hb12 := hb1.trans hb2; have H2 := H1.ext hb2; clear hb1 hb2 H1) | (go_at_call 52; refine (left_ok _ _ _ _ _ _ H2).mono ?_; rintro e w4 ⟨rfl, hb4⟩; have hb14 := hb12.trans hb4; have H4 := H2.ext hb4; clear hb12 hb4 H2; have f1 := H4.free 1; obtain ⟨c0, c1, c2, c3, c4⟩ := H4.cells; clear c2 c3 c4))
  go_quiet (fail)
  go_wp2
  go_ret
  exact ⟨by show Ending.returned (.string (t.extract r (r + (t.size - r)))) = _; rw [show r + (t.size - r) = t.size from by omega], hb14.drewN _⟩
theorem peek_ok (n : Int) (w : World) (b : Nat) (t : ByteArray) (r : Nat) (ba pl : Int) (H : Rdr w b t r ba 0 pl) : Calls Try.prog 48 #[.pointer (some ⟨b, 0, none⟩), .int .i64 n] w fun e w' => e = .returned (.string (t.extract r (r + (shown n (t.size - r)).toNat))) ∧ Ext w w' := by
  have hle := H.le
  by_cases h1 : n < 0
  · have e : r + (shown n (t.size - r)).toNat = r := by unfold shown; omega
    rw [e]; exact peek_low _ _ _ _ _ _ _ H h1
  by_cases h2 : n ≤ t.size - r
  · have e : r + (shown n (t.size - r)).toNat = r + n.toNat := by unfold shown; omega
    rw [e]; exact peek_in _ _ _ _ _ _ _ H (by omega) h2
  · have e : r + (shown n (t.size - r)).toNat = t.size := by unfold shown; omega
    rw [e]; exact peek_over _ _ _ _ _ _ _ H (by omega)
end Go.Proofs.Ytbdjncnofpbkkaa
