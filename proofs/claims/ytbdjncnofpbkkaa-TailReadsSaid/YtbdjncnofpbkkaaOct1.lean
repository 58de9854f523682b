/-
  Contracts of the readers' functions of package octet (1): what the worlds' relations are; Fault; nil readers.
-/
import Derived.Test.YtbdjncnofpbkkaaPtA
import Derived.WalkKit
import Derived.ProofKit
import Derived.OpenShut
import Derived.ShutString
import Derived.Below
import Derived.Outline
import Derived.Lib.Hide
import Derived.WalkLawsBesides
import Derived.WalkSpells
import Derived.BigQuiet
import Derived.Deep.QuietTactic
namespace Go.Proofs.Ytbdjncnofpbkkaa
open Go.ChangeShapes Go.WideShapes Go.ChangeAt Go.RowKit
set_option linter.unusedSimpArgs false
set_option linter.unusedVariables false

/-- A reader's block: its text, how far it was read, its base, its fault's number and place. -/
def rdr (t : ByteArray) (r ba er pl : Int) : Obj := .cells #[.string t, .int .i64 r, .int .i64 ba, .int .i64 er, .int .i64 pl] 73 (0, 0)
/-- In block b stands a reader. -/
structure Rdr (w : World) (b : Nat) (t : ByteArray) (r : Nat) (ba er pl : Int) : Prop where
  here : w.heap[b]? = some (rdr t r ba er pl)
  le : r ≤ t.size
  small : t.size ≤ 1099511627776
  lo : 0 ≤ ba
  hi : ba ≤ 1099511627776
theorem Rdr.cells {w : World} {b : Nat} {t : ByteArray} {r : Nat} {ba er pl : Int} (h : Rdr w b t r ba er pl) :
    w.cell? ⟨b, 0, none⟩ = some (.string t) ∧ w.cell? ⟨b, 1, none⟩ = some (.int .i64 r) ∧ w.cell? ⟨b, 2, none⟩ = some (.int .i64 ba) ∧ w.cell? ⟨b, 3, none⟩ = some (.int .i64 er) ∧ w.cell? ⟨b, 4, none⟩ = some (.int .i64 pl) := by
  simp [World.cell?, h.here, rdr]
theorem Rdr.free {w : World} {b : Nat} {t : ByteArray} {r : Nat} {ba er pl : Int} (h : Rdr w b t r ba er pl) (o : Nat) : w.frozen? ⟨b, o, none⟩ = false := by
  simp [World.frozen?, h.here, rdr]
theorem Rdr.lt {w : World} {b : Nat} {t : ByteArray} {r : Nat} {ba er pl : Int} (h : Rdr w b t r ba er pl) : b < w.heap.size := lt_of_block h.here
theorem Rdr.ext {w w' : World} {b : Nat} {t : ByteArray} {r : Nat} {ba er pl : Int} (h : Rdr w b t r ba er pl) (k : Ext w w') : Rdr w' b t r ba er pl :=
  ⟨(k.block b h.lt).trans h.here, h.le, h.small, h.lo, h.hi⟩
theorem Rdr.mod {w w' : World} {b g : Nat} {t : ByteArray} {r : Nat} {ba er pl : Int} (h : Rdr w b t r ba er pl) (k : Mod g w w') (hg : b ≠ g) : Rdr w' b t r ba er pl :=
  ⟨(k.block b h.lt (by simpa using hg)).trans h.here, h.le, h.small, h.lo, h.hi⟩

set_option maxHeartbeats 400000 in
theorem fault_at (w : World) (b : Nat) (t : ByteArray) (r : Nat) (ba er pl : Int) (h : Rdr w b t r ba er pl) : Calls Try.prog 51 #[.pointer (some ⟨b, 0, none⟩)] w fun e w' => e = .returned (.agg #[.int .i64 er, .int .i64 pl]) ∧ Ext w w' := by
  obtain ⟨c0, c1, c2, c3, c4⟩ := h.cells
  have hl := h.lt
  clear h
  go_enter Try.func51, Try.ntmps51
  go_wp2
  exact bodyPost_ret (v := .agg #[.int .i64 er, .int .i64 pl]) (by simp [results, Try.results51, go_sem]) rfl ⟨rfl, (by repeat (first | exact Ext.refl _ | apply Ext.drew | refine Ext.alloc ?_ _ | refine Ext.setCell ?_ (by simp) _))⟩

/-! ### Nil readers -/
end Go.Proofs.Ytbdjncnofpbkkaa
