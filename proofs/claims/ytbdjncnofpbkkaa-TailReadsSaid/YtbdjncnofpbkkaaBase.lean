/-
  What the relations of worlds are.
-/
import Derived.Test.YtbdjncnofpbkkaaRows
import Derived.WalkKit
import Derived.ProofKit
import Derived.OpenShut
import Derived.ShutString
import Derived.Below
import Derived.Outline
import Derived.Lib.Hide
import Derived.WalkLawsBesides
import Derived.WalkSpells
import Derived.BigQuiet
import Derived.Deep.QuietTactic
import Derived.Laws.BytesArg
import Derived.Laws.MakeOwn
import Derived.Laws.StructEq
import Derived.Lib.RuneBytes
namespace Go.Proofs.Ytbdjncnofpbkkaa
open Go Go.ChangeShapes Go.WideShapes Go.ChangeAt Go.RowKit
set_option linter.unusedSimpArgs false
set_option linter.unusedVariables false

/-- Nothing that was there has turned. -/
def Ext (w w' : World) : Prop := Below w.heap.size w w'
theorem Ext.refl (w : World) : Ext w w := Below.refl _ _
theorem Ext.trans {a b c : World} (h : Ext a b) (k : Ext b c) : Ext a c := Below.trans h (Below.mono k h.size)
theorem Ext.drew {a w : World} (h : Ext a w) : Ext a w.drew := Below.drew h
theorem Ext.drewN {a w : World} (h : Ext a w) (n : Nat) : Ext a (w.drewN n) := ⟨h.os, h.tape, h.output, h.size, h.block⟩
theorem Ext.alloc {a w : World} (h : Ext a w) (o : Obj) : Ext a (w.alloc o) := Below.alloc h h.size o
theorem Ext.setCell {a w : World} (h : Ext a w) {p : Addr} (hp : a.heap.size ≤ p.block) (u : Value) : Ext a (w.setCell p u) := Below.setCell h hp u
/-- Nothing that was there has turned but block b. -/
def Mod (b : Nat) (w w' : World) : Prop := w.grownBy w' (some b)
theorem Mod.of {b : Nat} {w w' : World} (h : Ext w w') : Mod b w w' := ⟨h.os, h.tape, h.output, h.size, fun i hi _ => h.block i hi⟩
theorem Mod.trans {g : Nat} {a b c : World} (h : Mod g a b) (k : Mod g b c) : Mod g a c :=
  ⟨k.os.trans h.os, k.tape.trans h.tape, k.output.trans h.output, Nat.le_trans h.size k.size, fun i hi hn => (k.block i (Nat.lt_of_lt_of_le hi h.size) hn).trans (h.block i hi hn)⟩
theorem Mod.drew {g : Nat} {a w : World} (h : Mod g a w) : Mod g a w.drew := ⟨h.os, h.tape, h.output, h.size, h.block⟩
theorem Mod.drewN {g : Nat} {a w : World} (h : Mod g a w) (n : Nat) : Mod g a (w.drewN n) := ⟨h.os, h.tape, h.output, h.size, h.block⟩
theorem Mod.alloc {g : Nat} {a w : World} (h : Mod g a w) (o : Obj) : Mod g a (w.alloc o) := h.trans (Mod.of ((Ext.refl w).alloc o))
theorem Mod.setCell {g : Nat} {a w : World} (h : Mod g a w) (o : Nat) (u : Value) : Mod g a (w.setCell ⟨g, o, none⟩ u) :=
  ⟨h.os, h.tape, h.output, by simpa [World.setCell] using h.size, fun i hi hne => (Below.heap_setCell w ⟨g, o, none⟩ u i (by rintro rfl; exact hne rfl)).trans (h.block i hi hne)⟩
theorem Ext.mod {g : Nat} {a b c : World} (h : Ext a b) (k : Mod g b c) (hg : a.heap.size ≤ g) : Ext a c :=
  Below.grown h k h.size (by rintro k ⟨⟩; exact hg)


theorem Ext.own {W w w' : World} {o : Obj} {B : Nat} {e : TypeId} {size : Nat} {v : Value} {n : Nat} {xs : List Value} (h : Ext W w) (hown : w.ownsRow B e size v n xs) (hB : W.heap.size ≤ B) (hg : (w.alloc o).grownBy w' v.ownBlock) : Ext W w' :=
  Below.grown (h.alloc o) hg (h.alloc o).size (fun k hk => Nat.le_trans hB (hown.lt k hk).1)
theorem Ext.own0 {W w w' : World} {B : Nat} {e : TypeId} {size : Nat} {v : Value} {n : Nat} {xs : List Value} (h : Ext W w) (hown : w.ownsRow B e size v n xs) (hB : W.heap.size ≤ B) (hg : w.grownBy w' v.ownBlock) : Ext W w' :=
  Below.grown h hg h.size (fun k hk => Nat.le_trans hB (hown.lt k hk).1)

/-! ### Signs as a text -/
end Go.Proofs.Ytbdjncnofpbkkaa
