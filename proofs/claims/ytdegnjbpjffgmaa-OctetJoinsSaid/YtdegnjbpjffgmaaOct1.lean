/-
  Contracts of the readers' functions of package octet (1): what the worlds' relations are; Fault; nil readers.
-/
import Derived.Test.YtdegnjbpjffgmaaRows
import Derived.WalkKit
import Derived.ProofKit
import Derived.OpenShut
import Derived.ShutString
import Derived.Below
import Derived.Outline
import Derived.Lib.Hide
import Derived.WalkLawsBesides
import Derived.WalkSpells
import Derived.BigQuiet
import Derived.Deep.QuietTactic
namespace Go.Proofs.Ytdegnjbpjffgmaa
open Go.ChangeShapes Go.WideShapes Go.ChangeAt Go.RowKit
set_option linter.unusedSimpArgs false
set_option linter.unusedVariables false

/-- Nothing that was there has turned. -/
def Ext (w w' : World) : Prop := Below w.heap.size w w'
theorem Ext.refl (w : World) : Ext w w := Below.refl _ _
theorem Ext.trans {a b c : World} (h : Ext a b) (k : Ext b c) : Ext a c := Below.trans h (Below.mono k h.size)
theorem Ext.drew {a w : World} (h : Ext a w) : Ext a w.drew := Below.drew h
theorem Ext.drewN {a w : World} (h : Ext a w) (n : Nat) : Ext a (w.drewN n) := ⟨h.os, h.tape, h.output, h.size, h.block⟩
theorem Ext.alloc {a w : World} (h : Ext a w) (o : Obj) : Ext a (w.alloc o) := Below.alloc h h.size o
theorem Ext.setCell {a w : World} (h : Ext a w) {p : Addr} (hp : a.heap.size ≤ p.block) (u : Value) : Ext a (w.setCell p u) := Below.setCell h hp u
/-- Nothing that was there has turned but block b. -/
def Mod (b : Nat) (w w' : World) : Prop := w.grownBy w' (some b)
theorem Mod.of {b : Nat} {w w' : World} (h : Ext w w') : Mod b w w' := ⟨h.os, h.tape, h.output, h.size, fun i hi _ => h.block i hi⟩
theorem Mod.trans {g : Nat} {a b c : World} (h : Mod g a b) (k : Mod g b c) : Mod g a c :=
  ⟨k.os.trans h.os, k.tape.trans h.tape, k.output.trans h.output, Nat.le_trans h.size k.size, fun i hi hn => (k.block i (Nat.lt_of_lt_of_le hi h.size) hn).trans (h.block i hi hn)⟩
theorem Mod.drew {g : Nat} {a w : World} (h : Mod g a w) : Mod g a w.drew := ⟨h.os, h.tape, h.output, h.size, h.block⟩
theorem Mod.drewN {g : Nat} {a w : World} (h : Mod g a w) (n : Nat) : Mod g a (w.drewN n) := ⟨h.os, h.tape, h.output, h.size, h.block⟩
theorem Mod.alloc {g : Nat} {a w : World} (h : Mod g a w) (o : Obj) : Mod g a (w.alloc o) := h.trans (Mod.of ((Ext.refl w).alloc o))
theorem Mod.setCell {g : Nat} {a w : World} (h : Mod g a w) (o : Nat) (u : Value) : Mod g a (w.setCell ⟨g, o, none⟩ u) :=
  ⟨h.os, h.tape, h.output, by simpa [World.setCell] using h.size, fun i hi hne => (Below.heap_setCell w ⟨g, o, none⟩ u i (by rintro rfl; exact hne rfl)).trans (h.block i hi hne)⟩
theorem Ext.mod {g : Nat} {a b c : World} (h : Ext a b) (k : Mod g b c) (hg : a.heap.size ≤ g) : Ext a c :=
  Below.grown h k h.size (by rintro k ⟨⟩; exact hg)

/-- A reader's block: its text, how far it was read, its base, its fault's number and place. -/
def rdr (t : ByteArray) (r ba er pl : Int) : Obj := .cells #[.string t, .int .i64 r, .int .i64 ba, .int .i64 er, .int .i64 pl] 61 (0, 0)
/-- In block b stands a reader. -/
structure Rdr (w : World) (b : Nat) (t : ByteArray) (r : Nat) (ba er pl : Int) : Prop where
  here : w.heap[b]? = some (rdr t r ba er pl)
  le : r ≤ t.size
  small : t.size ≤ 1099511627776
  lo : 0 ≤ ba
  hi : ba ≤ 1099511627776
theorem Rdr.cells {w : World} {b : Nat} {t : ByteArray} {r : Nat} {ba er pl : Int} (h : Rdr w b t r ba er pl) :
    w.cell? ⟨b, 0, none⟩ = some (.string t) ∧ w.cell? ⟨b, 1, none⟩ = some (.int .i64 r) ∧ w.cell? ⟨b, 2, none⟩ = some (.int .i64 ba) ∧ w.cell? ⟨b, 3, none⟩ = some (.int .i64 er) ∧ w.cell? ⟨b, 4, none⟩ = some (.int .i64 pl) := by
  simp [World.cell?, h.here, rdr]
theorem Rdr.free {w : World} {b : Nat} {t : ByteArray} {r : Nat} {ba er pl : Int} (h : Rdr w b t r ba er pl) (o : Nat) : w.frozen? ⟨b, o, none⟩ = false := by
  simp [World.frozen?, h.here, rdr]
theorem Rdr.lt {w : World} {b : Nat} {t : ByteArray} {r : Nat} {ba er pl : Int} (h : Rdr w b t r ba er pl) : b < w.heap.size := lt_of_block h.here
theorem Rdr.ext {w w' : World} {b : Nat} {t : ByteArray} {r : Nat} {ba er pl : Int} (h : Rdr w b t r ba er pl) (k : Ext w w') : Rdr w' b t r ba er pl :=
  ⟨(k.block b h.lt).trans h.here, h.le, h.small, h.lo, h.hi⟩
theorem Rdr.mod {w w' : World} {b g : Nat} {t : ByteArray} {r : Nat} {ba er pl : Int} (h : Rdr w b t r ba er pl) (k : Mod g w w') (hg : b ≠ g) : Rdr w' b t r ba er pl :=
  ⟨(k.block b h.lt (by simpa using hg)).trans h.here, h.le, h.small, h.lo, h.hi⟩

set_option maxHeartbeats 400000 in
theorem fault_nil (w : World) : Calls Try.prog 20 #[.pointer none] w fun e w' => e = .returned (.agg #[.int .i64 8, .int .i64 0]) ∧ Ext w w' := by
  go_enter Try.func20, Try.ntmps20
  go_wp2
  exact bodyPost_ret (v := .agg #[.int .i64 8, .int .i64 0]) (by simp [results, Try.results20, go_sem]) rfl ⟨rfl, (by repeat (first | exact Ext.refl _ | apply Ext.drew | refine Ext.alloc ?_ _ | refine Ext.setCell ?_ (by simp) _))⟩

set_option maxHeartbeats 400000 in
theorem fault_at (w : World) (b : Nat) (t : ByteArray) (r : Nat) (ba er pl : Int) (h : Rdr w b t r ba er pl) : Calls Try.prog 20 #[.pointer (some ⟨b, 0, none⟩)] w fun e w' => e = .returned (.agg #[.int .i64 er, .int .i64 pl]) ∧ Ext w w' := by
  obtain ⟨c0, c1, c2, c3, c4⟩ := h.cells
  have hl := h.lt
  clear h
  go_enter Try.func20, Try.ntmps20
  go_wp2
  exact bodyPost_ret (v := .agg #[.int .i64 er, .int .i64 pl]) (by simp [results, Try.results20, go_sem]) rfl ⟨rfl, (by repeat (first | exact Ext.refl _ | apply Ext.drew | refine Ext.alloc ?_ _ | refine Ext.setCell ?_ (by simp) _))⟩

theorem bad_yes (er pl : Int) (w : World) (h : (er != 0) = true) : Calls Try.prog 21 #[.agg #[.int .i64 er, .int .i64 pl]] w fun e w' => e = .returned (.bool true) ∧ Ext w w' := by
  go_enter Try.func21, Try.ntmps21
  go_wp2
  go_ret
  exact ⟨by simp_all, (by repeat (first | exact Ext.refl _ | apply Ext.drew | refine Ext.alloc ?_ _))⟩
theorem bad_no (er pl : Int) (w : World) (h : (er != 0) = false) : Calls Try.prog 21 #[.agg #[.int .i64 er, .int .i64 pl]] w fun e w' => e = .returned (.bool false) ∧ Ext w w' := by
  go_enter Try.func21, Try.ntmps21
  go_wp2
  go_ret
  exact ⟨by simp_all, (by repeat (first | exact Ext.refl _ | apply Ext.drew | refine Ext.alloc ?_ _))⟩

/-! ### Nil readers -/
theorem left_nil (w : World) : Calls Try.prog 19 #[.pointer none] w fun e w' => e = .returned (.int .i64 0) ∧ Ext w w' := by
  go_enter Try.func19, Try.ntmps19
  go_wp2_with (first | (go_at_call 20; refine (fault_nil _).mono ?_; rintro e w1 ⟨rfl, hb1⟩) | (go_at_call 21; refine (bad_yes _ _ _ (by decide)).mono ?_; rintro e w2 ⟨rfl, hb2⟩; have hb12 := hb1.trans hb2; clear hb1 hb2))
  go_ret
  exact ⟨rfl, (by repeat (first | assumption | apply Ext.drew | refine Ext.alloc ?_ _))⟩
theorem fail_nil (c n : Int) (w : World) : Calls Try.prog 31 #[.pointer none, .int .i64 c, .int .i64 n] w fun e w' => e = .returned (.tuple #[]) ∧ Ext w w' := by
  go_enter Try.func31, Try.ntmps31
  go_wp2_with (first | (go_at_call 20; refine (fault_nil _).mono ?_; rintro e w1 ⟨rfl, hb1⟩) | (go_at_call 21; refine (bad_yes _ _ _ (by decide)).mono ?_; rintro e w2 ⟨rfl, hb2⟩; have hb12 := hb1.trans hb2; clear hb1 hb2))
  refine bodyPost_ret (results_none rfl _ _ _) rfl ?_
  exact ⟨rfl, (by repeat (first | assumption | apply Ext.drew | refine Ext.alloc ?_ _))⟩
theorem take_nil (n : Int) (w : World) : Calls Try.prog 32 #[.pointer none, .int .i64 n] w fun e w' => e = .returned (.string ⟨#[]⟩) ∧ Ext w w' := by
  go_enter Try.func32, Try.ntmps32
  go_wp2_with (first | (go_at_call 20; refine (fault_nil _).mono ?_; rintro e w1 ⟨rfl, hb1⟩) | (go_at_call 21; refine (bad_yes _ _ _ (by decide)).mono ?_; rintro e w2 ⟨rfl, hb2⟩; have hb12 := hb1.trans hb2; clear hb1 hb2))
  go_ret
  exact ⟨rfl, (by repeat (first | assumption | apply Ext.drew | refine Ext.alloc ?_ _))⟩
theorem peek_nil (n : Int) (w : World) : Calls Try.prog 34 #[.pointer none, .int .i64 n] w fun e w' => e = .returned (.string ⟨#[]⟩) ∧ Ext w w' := by
  go_enter Try.func34, Try.ntmps34
  go_wp2_with (first | (go_at_call 20; refine (fault_nil _).mono ?_; rintro e w1 ⟨rfl, hb1⟩) | (go_at_call 21; refine (bad_yes _ _ _ (by decide)).mono ?_; rintro e w2 ⟨rfl, hb2⟩; have hb12 := hb1.trans hb2; clear hb1 hb2))
  go_ret
  exact ⟨rfl, (by repeat (first | assumption | apply Ext.drew | refine Ext.alloc ?_ _))⟩
theorem until_nil (s : ByteArray) (w : World) : Calls Try.prog 35 #[.pointer none, .string s] w fun e w' => e = .returned (.string ⟨#[]⟩) ∧ Ext w w' := by
  go_enter Try.func35, Try.ntmps35
  go_wp2_with (first | (go_at_call 20; refine (fault_nil _).mono ?_; rintro e w1 ⟨rfl, hb1⟩) | (go_at_call 21; refine (bad_yes _ _ _ (by decide)).mono ?_; rintro e w2 ⟨rfl, hb2⟩; have hb12 := hb1.trans hb2; clear hb1 hb2))
  go_ret
  exact ⟨rfl, (by repeat (first | assumption | apply Ext.drew | refine Ext.alloc ?_ _))⟩
theorem at_nil (w : World) : Calls Try.prog 28 #[.pointer none] w fun e w' => e = .returned (.int .i64 0) ∧ Ext w w' := by
  go_enter Try.func28, Try.ntmps28
  go_wp2
  go_ret
  exact ⟨rfl, Ext.refl _⟩
end Go.Proofs.Ytdegnjbpjffgmaa
