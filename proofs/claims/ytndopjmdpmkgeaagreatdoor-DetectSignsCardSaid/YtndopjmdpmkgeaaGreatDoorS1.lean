/-
  What the proof of this claim leans on (S1).
-/
import Derived.Test.YtndopjmdpmkgeaaGreatDoorRows
import Derived.Below
import Derived.BigQuiet
import Derived.Deep.OwnRows
import Derived.Deep.QuietTactic
import Derived.IntWalk
import Derived.Laws.AppendOwn
import Derived.Laws.BytesArg
import Derived.Laws.MakeOwn
import Derived.Laws.StructEq
import Derived.Lib.Hide
import Derived.Lib.RuneBytes
import Derived.OpenShut
import Derived.Outline
import Derived.ProofKit
import Derived.ShutString
import Derived.WalkKit
import Derived.WalkLawsBesides
import Derived.WalkSpells
namespace Go.Proofs.YtndopjmdpmkgeaaGreatDoor
open Go Go.ChangeShapes Go.WideShapes Go.ChangeAt Go.RowKit
set_option linter.unusedSimpArgs false
set_option linter.unusedVariables false

/-- Nothing that was there has turned. -/
def Ext (w w' : World) : Prop := Below w.heap.size w w'
theorem Ext.refl (w : World) : Ext w w := Below.refl _ _
theorem Ext.trans {a b c : World} (h : Ext a b) (k : Ext b c) : Ext a c := Below.trans h (Below.mono k h.size)
theorem Ext.drew {a w : World} (h : Ext a w) : Ext a w.drew := Below.drew h
theorem Ext.drewN {a w : World} (h : Ext a w) (n : Nat) : Ext a (w.drewN n) := ⟨h.os, h.tape, h.output, h.size, h.block⟩
theorem Ext.alloc {a w : World} (h : Ext a w) (o : Obj) : Ext a (w.alloc o) := Below.alloc h h.size o
theorem Ext.setCell {a w : World} (h : Ext a w) {p : Addr} (hp : a.heap.size ≤ p.block) (u : Value) : Ext a (w.setCell p u) := Below.setCell h hp u
/-- Nothing that was there has turned but block b. -/
def Mod (b : Nat) (w w' : World) : Prop := w.grownBy w' (some b)
theorem Mod.of {b : Nat} {w w' : World} (h : Ext w w') : Mod b w w' := ⟨h.os, h.tape, h.output, h.size, fun i hi _ => h.block i hi⟩
theorem Mod.trans {g : Nat} {a b c : World} (h : Mod g a b) (k : Mod g b c) : Mod g a c :=
  ⟨k.os.trans h.os, k.tape.trans h.tape, k.output.trans h.output, Nat.le_trans h.size k.size, fun i hi hn => (k.block i (Nat.lt_of_lt_of_le hi h.size) hn).trans (h.block i hi hn)⟩
theorem Mod.drew {g : Nat} {a w : World} (h : Mod g a w) : Mod g a w.drew := ⟨h.os, h.tape, h.output, h.size, h.block⟩
theorem Mod.drewN {g : Nat} {a w : World} (h : Mod g a w) (n : Nat) : Mod g a (w.drewN n) := ⟨h.os, h.tape, h.output, h.size, h.block⟩
theorem Mod.alloc {g : Nat} {a w : World} (h : Mod g a w) (o : Obj) : Mod g a (w.alloc o) := h.trans (Mod.of ((Ext.refl w).alloc o))
theorem Mod.setCell {g : Nat} {a w : World} (h : Mod g a w) (o : Nat) (u : Value) : Mod g a (w.setCell ⟨g, o, none⟩ u) :=
  ⟨h.os, h.tape, h.output, by simpa [World.setCell] using h.size, fun i hi hne => (Below.heap_setCell w ⟨g, o, none⟩ u i (by rintro rfl; exact hne rfl)).trans (h.block i hi hne)⟩
theorem Ext.mod {g : Nat} {a b c : World} (h : Ext a b) (k : Mod g b c) (hg : a.heap.size ≤ g) : Ext a c :=
  Below.grown h k h.size (by rintro k ⟨⟩; exact hg)


theorem Ext.own {W w w' : World} {o : Obj} {B : Nat} {e : TypeId} {size : Nat} {v : Value} {n : Nat} {xs : List Value} (h : Ext W w) (hown : w.ownsRow B e size v n xs) (hB : W.heap.size ≤ B) (hg : (w.alloc o).grownBy w' v.ownBlock) : Ext W w' :=
  Below.grown (h.alloc o) hg (h.alloc o).size (fun k hk => Nat.le_trans hB (hown.lt k hk).1)
theorem Ext.own0 {W w w' : World} {B : Nat} {e : TypeId} {size : Nat} {v : Value} {n : Nat} {xs : List Value} (h : Ext W w) (hown : w.ownsRow B e size v n xs) (hB : W.heap.size ≤ B) (hg : w.grownBy w' v.ownBlock) : Ext W w' :=
  Below.grown h hg h.size (fun k hk => Nat.le_trans hB (hown.lt k hk).1)

end Go.Proofs.YtndopjmdpmkgeaaGreatDoor

namespace Go.Proofs.YtndopjmdpmkgeaaGreatDoor
open Go Go.ChangeShapes Go.WideShapes Go.ChangeAt Go.RowKit
set_option linter.unusedSimpArgs false
set_option linter.unusedVariables false

/-- A code, its sign. -/
abbrev Pr := Int × Int
theorem own_ext {w w' : World} {B : Nat} {e : TypeId} {size : Nat} {v : Value} {n : Nat} {xs : List Value} (h : w.ownsRow B e size v n xs) (k : Ext w w') : w'.ownsRow B e size v n xs :=
  h.kept (row := none) ⟨k.os, k.tape, k.output, k.size, fun i hi _ => k.block i hi⟩ (by
    cases hv : v.ownBlock with
    | none => exact .inl rfl
    | some g => exact .inr (by simp))
theorem own_base {w : World} {B C : Nat} {e : TypeId} {size : Nat} {v : Value} {n : Nat} {xs : List Value} (h : w.ownsRow B e size v n xs) (hC : C ≤ B) : w.ownsRow C e size v n xs := by
  obtain ⟨a, b | ⟨g, cap, cur, e1, e2, r⟩⟩ := h
  · exact ⟨a, .inl b⟩
  · exact ⟨a, .inr ⟨g, cap, cur, e1, by omega, r⟩⟩
/-- A list of pairs: none, or in memory. -/
def IsPairs (w : World) (a : Option Addr) (len cap : Nat) (l : List Pr) : Prop :=
  l.length = len ∧ (len = 0 ∨ ∃ (x off : Nat), a = some ⟨x, off, none⟩ ∧ len ≤ cap ∧ x < w.heap.size ∧ ∀ (j : Nat) p, l[j]? = some p → w.cell? ⟨x, off + j * 2, none⟩ = some (.int .i64 p.1) ∧ w.cell? ⟨x, off + j * 2 + 1, none⟩ = some (.int .i32 p.2))
theorem IsPairs.block {w w' : World} {a : Option Addr} {len cap : Nat} {l : List Pr} (h : IsPairs w a len cap l) (hs : w.heap.size ≤ w'.heap.size) (k : ∀ x off, a = some ⟨x, off, none⟩ → w'.heap[x]? = w.heap[x]?) : IsPairs w' a len cap l := by
  obtain ⟨h1, h2⟩ := h
  refine ⟨h1, ?_⟩
  rcases h2 with h2 | ⟨x, off, rfl, hc, hx, hcell⟩
  · exact .inl h2
  · refine .inr ⟨x, off, rfl, hc, by omega, fun j z hj => ?_⟩
    have := hcell j z hj
    exact ⟨(World.cell?_of_block (k x off rfl)).trans this.1, (World.cell?_of_block (k x off rfl)).trans this.2⟩
theorem IsPairs.ext {w w' : World} {a : Option Addr} {len cap : Nat} {l : List Pr} (h : IsPairs w a len cap l) (k : Ext w w') : IsPairs w' a len cap l := by
  obtain ⟨h1, h2⟩ := h
  refine ⟨h1, ?_⟩
  rcases h2 with h2 | ⟨x, off, rfl, hc, hx, hcell⟩
  · exact .inl h2
  · refine .inr ⟨x, off, rfl, hc, Nat.lt_of_lt_of_le hx k.size, fun j z hj => ?_⟩
    have := hcell j z hj
    exact ⟨(World.cell?_of_block (k.block x hx)).trans this.1, (World.cell?_of_block (k.block x hx)).trans this.2⟩
end Go.Proofs.YtndopjmdpmkgeaaGreatDoor

namespace Go.Proofs.YtndopjmdpmkgeaaGreatDoor
open Go Go.ChangeShapes Go.WideShapes Go.ChangeAt Go.RowKit
set_option linter.unusedSimpArgs false
set_option linter.unusedVariables false

theorem arr_cell (w : World) (l : List Int) (t : TypeId) (c : Nat) (h : c < l.length) : (w.alloc (.cells (l.map fun x => Value.int .i64 x).toArray t)).cell? ⟨w.heap.size, c, none⟩ = some (.int .i64 (l.getD c 0)) := by
  have h1 := heap_alloc_new w (.cells (l.map fun x => Value.int .i64 x).toArray t)
  simp only [World.cell?, h1]
  simp [List.getD, h]
def medL : List Int := [-2, -2, -1, 0, 1, 2, 3, 4, -2, -2, 5, 6, 7, 8, 9, 10, -2, -2, 11, 12, 13, 14, 15, 16, -2, -2, 17, 18, 19, 20, -2, -2]
def aloneL : List Int := [0, 1, 103, 2, 105, 106, 3, 4, 5, 109, 110, 111, 112, 113, 114, 115, 6, 7, 8, 118, 9, 10, 11, 12, 13, 14, 15, 16, 17, 18]
/-- The number of a medial's code; -1: none; -2: it isn't there. -/
def medZ (c : Nat) : Int := medL.getD c 0
/-- The number of a final's code; -2: it isn't there. -/
def finZ (c : Nat) : Int := if c = 0 ∨ c = 18 ∨ 29 < c then -2 else if c < 18 then (c : Int) - 1 else (c : Int) - 2
theorem medZ_bd : ∀ c : Fin 32, -2 ≤ medZ c.val ∧ medZ c.val ≤ 20 := by decide +kernel
theorem finZ_bd : ∀ c : Fin 32, (finZ c.val = -2 ∨ 0 ≤ finZ c.val) ∧ finZ c.val ≤ 27 := by decide +kernel
set_option maxRecDepth 100000 in
set_option maxHeartbeats 1000000 in
theorem rmedial (c : Nat) (w : World) (h : c < 32) : Calls Tryz.prog 101 #[.int .i64 c] w fun e w' => e = .returned (.int .i64 (medZ c)) ∧ Ext w w' := by
  have hc : (w.alloc (.cells #[.int .i64 (-2), .int .i64 (-2), .int .i64 (-1), .int .i64 0, .int .i64 1, .int .i64 2, .int .i64 3, .int .i64 4, .int .i64 (-2), .int .i64 (-2), .int .i64 5, .int .i64 6, .int .i64 7, .int .i64 8, .int .i64 9, .int .i64 10, .int .i64 (-2), .int .i64 (-2), .int .i64 11, .int .i64 12, .int .i64 13, .int .i64 14, .int .i64 15, .int .i64 16, .int .i64 (-2), .int .i64 (-2), .int .i64 17, .int .i64 18, .int .i64 19, .int .i64 20, .int .i64 (-2), .int .i64 (-2)] 3)).cell? ⟨w.heap.size, c, none⟩ = some (.int .i64 (medZ c)) := arr_cell w medL 3 c h
  have h0 : (0 : Int) ≤ c := by omega
  have h1 : (c : Int) < 32 := by omega
  generalize medZ c = v at hc
  go_enter Tryz.func101, Tryz.ntmps101
  go_wp2
  go_ret
  exact ⟨rfl, (Ext.refl w).alloc _⟩
theorem rfinal (c : Nat) (w : World) (h : c < 32) : Calls Tryz.prog 102 #[.int .i64 c] w fun e w' => e = .returned (.int .i64 (finZ c)) ∧ Ext w w' := by
  by_cases h0 : c = 0
  · subst h0
    go_enter Tryz.func102, Tryz.ntmps102
    go_wp2
    go_ret
    exact ⟨rfl, Ext.refl _⟩
  by_cases h1 : c = 18
  · subst h1
    go_enter Tryz.func102, Tryz.ntmps102
    go_wp2
    go_ret
    exact ⟨rfl, Ext.refl _⟩
  by_cases h2 : 29 < c
  · have e : finZ c = -2 := if_pos (.inr (.inr h2))
    rw [e]
    have e1 : (29 : Int) < c := by omega
    have e2 : ((c : Int) == 0) = false := beq_false_of_ne (by omega)
    have e3 : ((c : Int) == 18) = false := beq_false_of_ne (by omega)
    go_enter Tryz.func102, Tryz.ntmps102
    go_wp2
    go_ret
    exact ⟨rfl, Ext.refl _⟩
  have hn : ¬ (c = 0 ∨ c = 18 ∨ 29 < c) := by omega
  obtain ⟨n, hcn⟩ : ∃ n : Int, n = c := ⟨_, rfl⟩
  have e1 : ¬ (29 : Int) < n := by omega
  have e2 : (n == 0) = false := beq_false_of_ne (by omega)
  have e3 : (n == 18) = false := beq_false_of_ne (by omega)
  have e4 : ¬ n = 0 := by omega
  have e5 : ¬ n = 18 := by omega
  have e6 : 0 ≤ n := by omega
  by_cases h3 : c < 18
  · have e : finZ c = n - 1 := by unfold finZ; rw [if_neg hn, if_pos h3]; omega
    rw [e, ← hcn]
    have e7 : n < 18 := by omega
    clear e hcn
    go_enter Tryz.func102, Tryz.ntmps102
    go_wp2
    go_ret
    exact ⟨rfl, Ext.refl _⟩
  · have e : finZ c = n - 2 := by unfold finZ; rw [if_neg hn, if_neg h3]; omega
    rw [e, ← hcn]
    have e7 : ¬ n < 18 := by omega
    have e8 : n ≤ 29 := by omega
    clear e hcn
    go_enter Tryz.func102, Tryz.ntmps102
    go_wp2
    go_ret
    exact ⟨rfl, Ext.refl _⟩
/-- The consonant of a part; 0: there is none. -/
def aloneGo (part : Int) : Nat → List Int → Int
  | _, [] => 0
  | k, x :: l => if x = part then 12593 + (k : Int) else aloneGo part (k + 1) l
def aloneZ (part : Int) : Int := aloneGo part 0 aloneL
theorem aloneGo_at (part : Int) : ∀ (l : List Int) (k j : Nat), (∀ i, i < j → l.getD i 0 ≠ part) → j < l.length → l.getD j 0 = part → aloneGo part k l = 12593 + ((k + j : Nat) : Int)
  | [], _, _, _, h, _ => by simp at h
  | x :: l, k, 0, _, _, e => by
    have e : x = part := by simpa using e
    rw [aloneGo, if_pos e]; rfl
  | x :: l, k, j + 1, hn, h, e => by
    have h0 : x ≠ part := by simpa using hn 0 (by omega)
    rw [aloneGo, if_neg h0, aloneGo_at part l (k + 1) j (fun i hi => by simpa using hn (i + 1) (by omega)) (by simpa using h) (by simpa using e)]
    omega
theorem aloneGo_no (part : Int) : ∀ (l : List Int) (k : Nat), (∀ i, i < l.length → l.getD i 0 ≠ part) → aloneGo part k l = 0
  | [], _, _ => rfl
  | x :: l, k, hn => by
    have h0 : x ≠ part := by simpa using hn 0 (by simp)
    rw [aloneGo, if_neg h0, aloneGo_no part l (k + 1) (fun i hi => by simpa using hn (i + 1) (by simpa using hi))]
set_option maxRecDepth 100000 in
set_option maxHeartbeats 1000000 in
theorem ralone (p : Int) (w : World) : Calls Tryz.prog 103 #[.int .i64 p] w fun e w' => e = .returned (.int .i32 (aloneZ p)) ∧ Ext w w' := by
  have HC : Hid (∀ c, c < 30 → (w.alloc (.cells #[.int .i64 0, .int .i64 1, .int .i64 103, .int .i64 2, .int .i64 105, .int .i64 106, .int .i64 3, .int .i64 4, .int .i64 5, .int .i64 109, .int .i64 110, .int .i64 111, .int .i64 112, .int .i64 113, .int .i64 114, .int .i64 115, .int .i64 6, .int .i64 7, .int .i64 8, .int .i64 118, .int .i64 9, .int .i64 10, .int .i64 11, .int .i64 12, .int .i64 13, .int .i64 14, .int .i64 15, .int .i64 16, .int .i64 17, .int .i64 18] 3)).cell? ⟨w.heap.size, c, none⟩ = some (.int .i64 (aloneL.getD c 0))) := fun c h => arr_cell w aloneL 3 c h
  go_enter Tryz.func103, Tryz.ntmps103
  go_wp2
  go_loop [4] (fun i => ∃ k : Nat, k ≤ 30 ∧ i = .int .i64 k ∧ Hid (∀ j, j < k → aloneL.getD j 0 ≠ p)) (fun i => 30 - (intOf i).toNat)
  case atStart => exact ⟨0, by omega, rfl, fun j h => by omega⟩
  case round =>
    obtain ⟨k, hk, rfl, HN⟩ := hrel
    by_cases hlt : k < 30
    · have hc := HC.out k hlt
      have h0 : (0 : Int) ≤ k := by omega
      have h1 : (k : Int) < 30 := by omega
      by_cases he : aloneL.getD k 0 = p
      · have HF : Hid (aloneZ p = 12593 + (k : Int)) := by
          show aloneGo p 0 aloneL = _
          rw [aloneGo_at p aloneL 0 k HN.out hlt he, Nat.zero_add]
        rw [he] at hc
        clear he
        go_wp2
        go_ret
        exact ⟨by rw [HF.out]; rfl, (Ext.refl w).alloc _⟩
      · have he2 : (aloneL.getD k 0 == p) = false := beq_false_of_ne he
        have HE := Lib.hid he
        generalize aloneL.getD k 0 = v at hc he he2
        go_wp2
        go_round
        case rel =>
          refine ⟨k + 1, by omega, by go_num, fun j hj => ?_⟩
          by_cases e : j = k
          · subst e; exact HE.out
          · exact HN.out j (by omega)
        case measure => simp [intOf]; omega
    · have hk30 : k = 30 := by omega
      subst hk30
      have HF : Hid (aloneZ p = 0) := aloneGo_no p aloneL 0 (fun i hi => HN.out i hi)
      go_wp2
      go_ret
      exact ⟨by rw [HF.out]; rfl, (Ext.refl w).alloc _⟩
end Go.Proofs.YtndopjmdpmkgeaaGreatDoor

namespace Go.Proofs.YtndopjmdpmkgeaaGreatDoor
open Go Go.ChangeShapes Go.WideShapes Go.ChangeAt Go.RowKit
set_option linter.unusedSimpArgs false
set_option linter.unusedVariables false

/-- The sign of three parts' numbers; 0: there is none. -/
def partsJ (i m f : Int) : Int :=
  if i < -1 ∨ 18 < i ∨ m = -2 ∨ f = -2 then 0
  else if 0 ≤ i ∧ 0 ≤ m then 44032 + (i * 21 + m) * 28 + f
  else if i < 0 ∧ 0 ≤ m ∧ f = 0 then 12623 + m
  else if 0 ≤ i ∧ m < 0 ∧ f = 0 then aloneZ i
  else if i < 0 ∧ m < 0 ∧ 0 < f then aloneZ (100 + f)
  else 0
/-- The sign of a code of sixteen bits; 0: there is none. -/
def signJ (c : Nat) : Int := if c < 32768 then 0 else partsJ (((c / 1024 % 32 : Nat) : Int) - 2) (medZ (c / 32 % 32)) (finZ (c % 32))
set_option maxRecDepth 100000 in
set_option maxHeartbeats 4000000 in
theorem rsignj (c : Nat) (w : World) (h : c < 65536) : Calls Tryz.prog 59 #[.int .i64 c] w fun e w' => e = .returned (.int .i32 (signJ c)) ∧ Ext w w' := by
  by_cases hlo : c < 32768
  · have e : signJ c = 0 := if_pos hlo
    rw [e]
    obtain ⟨n, hn⟩ : ∃ n : Int, n = c := ⟨_, rfl⟩
    rw [← hn]
    have h1 : n < 32768 := by omega
    clear hn e hlo h
    go_enter Tryz.func59, Tryz.ntmps59
    go_wp2
    go_ret
    exact ⟨rfl, Ext.refl _⟩
  have e : signJ c = partsJ (((c / 1024 % 32 : Nat) : Int) - 2) (medZ (c / 32 % 32)) (finZ (c % 32)) := if_neg hlo
  rw [e]
  have hm := medZ_bd ⟨c / 32 % 32, by omega⟩
  have hf := finZ_bd ⟨c % 32, by omega⟩
  have hm : -2 ≤ medZ (c / 32 % 32) ∧ medZ (c / 32 % 32) ≤ 20 := hm
  have hf : (finZ (c % 32) = -2 ∨ 0 ≤ finZ (c % 32)) ∧ finZ (c % 32) ≤ 27 := hf
  have HM := Lib.hid (fun w => rmedial (c / 32 % 32) w (by omega))
  have HF := Lib.hid (fun w => rfinal (c % 32) w (by omega))
  have e1 : ((c / 32 % 32 : Nat) : Int) = (c : Int) / 32 % 32 := by omega
  have e2 : ((c % 32 : Nat) : Int) = (c : Int) % 32 := by omega
  have e3 : ((c / 1024 % 32 : Nat) : Int) = (c : Int) / 1024 % 32 := by omega
  rw [e1] at HM
  rw [e2] at HF
  rw [e3]
  generalize medZ (c / 32 % 32) = m at hm HM
  generalize finZ (c % 32) = f at hf HF
  obtain ⟨n, hn⟩ : ∃ n : Int, n = c := ⟨_, rfl⟩
  rw [← hn] at HM HF ⊢
  have n0 : ¬ n < 32768 := by omega
  have n1 : 0 ≤ n := by omega
  have n2 : n < 65536 := by omega
  clear hn e e1 e2 e3 hlo h
  obtain ⟨i, hi⟩ : ∃ i : Int, i = n / 1024 % 32 - 2 := ⟨_, rfl⟩
  have i0 : -2 ≤ i := by omega
  have i1 : i ≤ 29 := by omega
  obtain ⟨m0, m1⟩ := hm
  obtain ⟨f0, f1⟩ := hf
  rw [← hi]
  have HI := Lib.hid hi
  clear hi
  have HS : Hid (∀ w, Calls Tryz.prog 59 #[.int .i64 n] w fun e w' => e = .returned (.int .i32 (partsJ i m f)) ∧ Ext w w') := by
    intro w
    by_cases a1 : i < -1
    · have hp : partsJ i m f = 0 := if_pos (.inl a1)
      rw [hp]
      have hi := HI.out
      subst hi
      clear HI hp f0
      go_enter Tryz.func59, Tryz.ntmps59
      go_wp2_with (first
        | (go_at_call 101; refine (HM.out _).mono ?_; rintro e w1 ⟨rfl, hb1⟩)
        | (go_at_call 102; refine (HF.out _).mono ?_; rintro e w2 ⟨rfl, hb2⟩))
      go_ret
      exact ⟨rfl, hb1.trans hb2⟩
    by_cases a2 : 18 < i
    · have hp : partsJ i m f = 0 := if_pos (.inr (.inl a2))
      rw [hp]
      have hi := HI.out
      subst hi
      clear HI hp f0
      go_enter Tryz.func59, Tryz.ntmps59
      go_wp2_with (first
        | (go_at_call 101; refine (HM.out _).mono ?_; rintro e w1 ⟨rfl, hb1⟩)
        | (go_at_call 102; refine (HF.out _).mono ?_; rintro e w2 ⟨rfl, hb2⟩))
      go_ret
      exact ⟨rfl, hb1.trans hb2⟩
    by_cases a3 : m = -2
    · have hp : partsJ i m f = 0 := if_pos (.inr (.inr (.inl a3)))
      rw [hp]
      subst a3
      have hi := HI.out
      subst hi
      clear HI hp f0
      go_enter Tryz.func59, Tryz.ntmps59
      go_wp2_with (first
        | (go_at_call 101; refine (HM.out _).mono ?_; rintro e w1 ⟨rfl, hb1⟩)
        | (go_at_call 102; refine (HF.out _).mono ?_; rintro e w2 ⟨rfl, hb2⟩))
      go_ret
      exact ⟨rfl, hb1.trans hb2⟩
    have a3b : (m == -2) = false := beq_false_of_ne a3
    by_cases a4 : f = -2
    · have hp : partsJ i m f = 0 := if_pos (.inr (.inr (.inr a4)))
      rw [hp]
      subst a4
      have hi := HI.out
      subst hi
      clear HI hp f0
      go_enter Tryz.func59, Tryz.ntmps59
      go_wp2_with (first
        | (go_at_call 101; refine (HM.out _).mono ?_; rintro e w1 ⟨rfl, hb1⟩)
        | (go_at_call 102; refine (HF.out _).mono ?_; rintro e w2 ⟨rfl, hb2⟩))
      go_ret
      exact ⟨rfl, hb1.trans hb2⟩
    have a4b : (f == -2) = false := beq_false_of_ne a4
    have hno : ¬ (i < -1 ∨ 18 < i ∨ m = -2 ∨ f = -2) := by omega
    have f2 : 0 ≤ f := by omega
    by_cases b1 : 0 ≤ i
    · have b1n : ¬ i < 0 := by omega
      by_cases b2 : 0 ≤ m
      · have hp : partsJ i m f = 44032 + (i * 21 + m) * 28 + f := by unfold partsJ; rw [if_neg hno, if_pos ⟨b1, b2⟩]
        rw [hp]
        clear hno
        have hi := HI.out
        subst hi
        clear HI hp f0
        go_enter Tryz.func59, Tryz.ntmps59
        go_wp2_with (first
          | (go_at_call 101; refine (HM.out _).mono ?_; rintro e w1 ⟨rfl, hb1⟩)
          | (go_at_call 102; refine (HF.out _).mono ?_; rintro e w2 ⟨rfl, hb2⟩))
        go_ret
        exact ⟨rfl, hb1.trans hb2⟩
      · have b2n : m < 0 := by omega
        by_cases b3 : f = 0
        · have hp : partsJ i m f = aloneZ i := by unfold partsJ; rw [if_neg hno, if_neg (by omega), if_neg (by omega), if_pos ⟨b1, b2n, b3⟩]
          rw [hp]
          clear hno
          subst b3
          have hi := HI.out
          subst hi
          clear HI hp f0
          go_enter Tryz.func59, Tryz.ntmps59
          go_wp2_with (first
            | (go_at_call 101; refine (HM.out _).mono ?_; rintro e w1 ⟨rfl, hb1⟩)
            | (go_at_call 102; refine (HF.out _).mono ?_; rintro e w2 ⟨rfl, hb2⟩)
            | (go_at_call 103; refine (ralone _ _).mono ?_; rintro e w3 ⟨rfl, hb3⟩))
          go_ret
          exact ⟨rfl, (hb1.trans hb2).trans hb3⟩
        · have b3b : (f == 0) = false := beq_false_of_ne b3
          have hp : partsJ i m f = 0 := by unfold partsJ; rw [if_neg hno, if_neg (by omega), if_neg (by omega), if_neg (by omega), if_neg (by omega)]
          rw [hp]
          clear hno
          have hi := HI.out
          subst hi
          clear HI hp f0
          go_enter Tryz.func59, Tryz.ntmps59
          go_wp2_with (first
            | (go_at_call 101; refine (HM.out _).mono ?_; rintro e w1 ⟨rfl, hb1⟩)
            | (go_at_call 102; refine (HF.out _).mono ?_; rintro e w2 ⟨rfl, hb2⟩))
          go_ret
          exact ⟨rfl, hb1.trans hb2⟩
    · have b1n : i < 0 := by omega
      by_cases b2 : 0 ≤ m
      · have b2n : ¬ m < 0 := by omega
        by_cases b3 : f = 0
        · have hp : partsJ i m f = 12623 + m := by unfold partsJ; rw [if_neg hno, if_neg (by omega), if_pos ⟨b1n, b2, b3⟩]
          rw [hp]
          clear hno
          subst b3
          have hi := HI.out
          subst hi
          clear HI hp f0
          go_enter Tryz.func59, Tryz.ntmps59
          go_wp2_with (first
            | (go_at_call 101; refine (HM.out _).mono ?_; rintro e w1 ⟨rfl, hb1⟩)
            | (go_at_call 102; refine (HF.out _).mono ?_; rintro e w2 ⟨rfl, hb2⟩))
          go_ret
          exact ⟨rfl, hb1.trans hb2⟩
        · have b3b : (f == 0) = false := beq_false_of_ne b3
          have hp : partsJ i m f = 0 := by unfold partsJ; rw [if_neg hno, if_neg (by omega), if_neg (by omega), if_neg (by omega), if_neg (by omega)]
          rw [hp]
          clear hno
          have hi := HI.out
          subst hi
          clear HI hp f0
          go_enter Tryz.func59, Tryz.ntmps59
          go_wp2_with (first
            | (go_at_call 101; refine (HM.out _).mono ?_; rintro e w1 ⟨rfl, hb1⟩)
            | (go_at_call 102; refine (HF.out _).mono ?_; rintro e w2 ⟨rfl, hb2⟩))
          go_ret
          exact ⟨rfl, hb1.trans hb2⟩
      · have b2n : m < 0 := by omega
        by_cases b3 : 0 < f
        · have hp : partsJ i m f = aloneZ (100 + f) := by unfold partsJ; rw [if_neg hno, if_neg (by omega), if_neg (by omega), if_neg (by omega), if_pos ⟨b1n, b2n, b3⟩]
          rw [hp]
          clear hno
          have hi := HI.out
          subst hi
          clear HI hp f0
          go_enter Tryz.func59, Tryz.ntmps59
          go_wp2_with (first
            | (go_at_call 101; refine (HM.out _).mono ?_; rintro e w1 ⟨rfl, hb1⟩)
            | (go_at_call 102; refine (HF.out _).mono ?_; rintro e w2 ⟨rfl, hb2⟩)
            | (go_at_call 103; refine (ralone _ _).mono ?_; rintro e w3 ⟨rfl, hb3⟩))
          go_ret
          exact ⟨rfl, (hb1.trans hb2).trans hb3⟩
        · have hp : partsJ i m f = 0 := by unfold partsJ; rw [if_neg hno, if_neg (by omega), if_neg (by omega), if_neg (by omega), if_neg (by omega)]
          rw [hp]
          clear hno
          have hi := HI.out
          subst hi
          clear HI hp f0
          go_enter Tryz.func59, Tryz.ntmps59
          go_wp2_with (first
            | (go_at_call 101; refine (HM.out _).mono ?_; rintro e w1 ⟨rfl, hb1⟩)
            | (go_at_call 102; refine (HF.out _).mono ?_; rintro e w2 ⟨rfl, hb2⟩))
          go_ret
          exact ⟨rfl, hb1.trans hb2⟩
  exact HS.out w
end Go.Proofs.YtndopjmdpmkgeaaGreatDoor

namespace Go.Proofs.YtndopjmdpmkgeaaGreatDoor
open Go Go.RowKit
set_option linter.unusedSimpArgs false
set_option linter.unusedVariables false

/-- Does something hold of all of 2^d numbers from b on? -/
def chk (f : Nat → Bool) : Nat → Nat → Bool
  | 0, b => f b
  | d + 1, b => chk f d b && chk f d (b + 2 ^ d)
theorem chk_all (f : Nat → Bool) : ∀ (d b : Nat), chk f d b = true → ∀ k, k < 2 ^ d → f (b + k) = true
  | 0, b, h, k, hk => by
    obtain rfl : k = 0 := by simpa using hk
    exact h
  | d + 1, b, h, k, hk => by
    unfold chk at h
    simp only [Bool.and_eq_true] at h
    rw [Nat.pow_succ] at hk
    rcases Nat.lt_or_ge k (2 ^ d) with h2 | h2
    · exact chk_all f d b h.1 k h2
    · have := chk_all f d (b + 2 ^ d) h.2 (k - 2 ^ d) (by omega)
      rwa [show b + 2 ^ d + (k - 2 ^ d) = b + k from by omega] at this
def medC : List Nat := [3, 4, 5, 6, 7, 10, 11, 12, 13, 14, 15, 18, 19, 20, 21, 22, 23, 26, 27, 28, 29]
def finC (f : Nat) : Nat := if f < 17 then f + 1 else f + 2
/-- The code of a sign, reckoned. -/
def backJ (p : Int) : Nat :=
  if 44032 ≤ p then
    let s := (p - 44032).toNat
    32768 + (s / 588 + 2) * 1024 + medC.getD (s / 28 % 21) 0 * 32 + finC (s % 28)
  else if 12623 ≤ p then 32768 + 1024 + medC.getD (p - 12623).toNat 0 * 32 + 1
  else
    let x := (aloneL.getD (p - 12593).toNat 0).toNat
    if x < 100 then 32768 + (x + 2) * 1024 + 64 + 1 else 32768 + 1024 + 64 + finC (x - 100)
def okJ (c : Nat) : Bool := signJ c == 0 || (backJ (signJ c) == c && decide (12593 ≤ signJ c) && decide (signJ c ≤ 55203) && !(decide (12643 < signJ c) && decide (signJ c < 44032)))
set_option maxRecDepth 100000 in
theorem okJ_all : chk okJ 15 32768 = true := by decide +kernel
theorem okJ_at (c : Nat) (h : c < 65536) (hs : signJ c ≠ 0) : backJ (signJ c) = c ∧ 12593 ≤ signJ c ∧ signJ c ≤ 55203 ∧ ¬ (12643 < signJ c ∧ signJ c < 44032) ∧ 32768 ≤ c := by
  have hc : 32768 ≤ c := by
    rcases Nat.lt_or_ge c 32768 with h2 | h2
    · exact absurd (if_pos h2) hs
    · exact h2
  have h1 := chk_all okJ 15 32768 okJ_all (c - 32768) (by omega)
  rw [show 32768 + (c - 32768) = c from by omega] at h1
  unfold okJ at h1
  have h0 : (signJ c == 0) = false := beq_false_of_ne hs
  rw [h0, Bool.false_or] at h1
  simp only [Bool.and_eq_true, Bool.not_eq_true', beq_iff_eq, decide_eq_true_eq] at h1
  obtain ⟨⟨⟨g1, g2⟩, g3⟩, g4⟩ := h1
  refine ⟨g1, g2, g3, fun k => ?_, hc⟩
  rw [decide_eq_true k.1, decide_eq_true k.2] at g4
  cases g4
end Go.Proofs.YtndopjmdpmkgeaaGreatDoor

namespace Go.Proofs.YtndopjmdpmkgeaaGreatDoor
open Go Go.ChangeShapes Go.WideShapes Go.ChangeAt Go.RowKit
set_option linter.unusedSimpArgs false
set_option linter.unusedVariables false

theorem info_u8B : (Tryz.prog.info? 5).map (fun i => (i.zero, i.size, i.bytes)) = some (some (.int .u8 0), 1, 1) := by kernel_rfl
theorem width_two (w : World) : Calls Tryz.prog 175 #[.int .i64 2] w fun e w' => e = .returned (.int .i64 2) ∧ w = w' := by
  go_enter Tryz.func175, Tryz.ntmps175
  go_wp2
  go_ret
  exact ⟨by simp, rfl⟩
theorem make_two (w : World) : (Instr.makeSlice 96 (.int .i64 2) (.int .i64 2)).run Tryz.prog w = .ok (.slice (some ⟨w.heap.size, 0, none⟩) 2 2) (w.alloc (.cells (madeCells #[.int .u8 0] 2) 5)) :=
  run_make_row' 96 5 (.int .u8 0) 1 Tryz.underlying96 info_u8B rfl .i64 .i64 2 (by omega) (by omega) w
def bytesByB (k : Nat) (f : Nat → Nat) : ByteArray := strOfNums ((List.range k).map fun j => (f j : Int))
theorem string_rowB (w : World) (g k : Nat) (f : Nat → Nat) (h : w.rowIs g 5 k (fun j => .int .u8 (f j))) : (convert 96 9 (.slice (some ⟨g, 0, none⟩) k k)).run Tryz.prog w = .ok (.string (bytesByB k f)) w :=
  run_convert_bytes_arg w 96 5 Tryz.underlying96 Tryz.underlying5 g 0 k k _ (by simp) (fun i hi => by
    rw [Nat.zero_add, h.cell hi]
    simp [List.getD, hi]) 9 Tryz.underlying9
theorem shr_atB (n q : Nat) : ((n : Int) / 2 ^ (8 * q) % 256) = ((n / 256 ^ q % 256 : Nat) : Int) := by
  rw [Int.pow_mul]
  simp
def bigAtB (n k j : Nat) : Nat := n / 256 ^ (k - 1 - j) % 256
set_option maxRecDepth 100000 in
set_option maxHeartbeats 400000 in
theorem wbig2 (n : Nat) (w : World) (hn : n < 18446744073709551616) : Calls Tryz.prog 139 #[.int .u64 n, .int .i64 2] w fun e w' => e = .returned (.string (bytesByB 2 (bigAtB n 2))) ∧ Ext w w' := by
  have hmk0 := make_two w
  obtain ⟨k, hk⟩ : ∃ k : Nat, k = 2 := ⟨_, rfl⟩
  have hh : k ≤ 8 := by omega
  have hkk : ((2 : Nat) : Int) = (k : Int) := by rw [hk]
  have HW : Hid (∀ w, Calls Tryz.prog 175 #[.int .i64 2] w fun e w' => e = .returned (.int .i64 (k : Int)) ∧ w = w') := fun w => by rw [hk]; exact width_two w
  have hmk : (Instr.makeSlice 96 (.int .i64 (k : Int)) (.int .i64 (k : Int))).run Tryz.prog w = .ok (.slice (some ⟨w.heap.size, 0, none⟩) k k) (w.alloc (.cells (madeCells #[.int .u8 0] k) 5)) := by rw [hk]; exact hmk0
  rw [← hk]
  clear hmk0 hk hkk
  go_enter Tryz.func139, Tryz.ntmps139
  go_wp2_with (first | (go_at_call 175; refine (HW.out _).mono ?_; rintro e w1 ⟨rfl, rfl⟩))
  go_loopw [12] (fun i wr => ∃ q : Nat, q ≤ k ∧ i = .int .i64 q ∧ Ext w wr ∧ wr.rowIs w.heap.size 5 k (fun j => .int .u8 ((if k - q ≤ j then bigAtB n k j else 0 : Nat) : Int))) (fun i _ => k - (intOf i).toNat)
  case atStart => exact ⟨0, Nat.zero_le _, rfl, (Ext.refl _).alloc _, (World.rowIs_made w (.int .u8 0) k 5).congr (fun i hi => by rw [if_neg (by omega)]; rfl)⟩
  case round =>
    obtain ⟨q, hq, rfl, hx, hr⟩ := hrel
    by_cases hlt : q < k
    · have hc := hr.cell (i := k - 1 - q) (by omega)
      have hf := hr.frozen (k - 1 - q)
      have he : ((k : Int) - 1 - q).toNat = k - 1 - q := by omega
      go_wp2
      go_roundw
      case rel =>
        refine ⟨q + 1, by omega, by go_num, Below.setCell hx (by simp) _, (hr.set (k - 1 - q) _).congr (fun j hj => ?_)⟩
        by_cases e : j = k - 1 - q
        · subst e
          rw [if_pos rfl, if_pos (by omega)]
          unfold bigAtB
          rw [show k - 1 - (k - 1 - q) = q from by omega, shr_atB]
        · rw [if_neg e]
          by_cases e2 : k - q ≤ j
          · rw [if_pos e2, if_pos (by omega)]
          · rw [if_neg e2, if_neg (by omega)]
      case measure => simp [intOf]; omega
    · have hqk : q = k := by omega
      subst hqk
      have hs := string_rowB wr w.heap.size q (bigAtB n q) (hr.congr (fun j hj => by rw [if_pos (by omega)]))
      go_wp2
      go_ret
      exact ⟨rfl, hx⟩
/-- Two bytes of a number. -/
def twoB (n : Nat) : ByteArray := ⟨#[(n / 256).toUInt8, (n % 256).toUInt8]⟩
theorem bytesBy_twoB (n : Nat) (hn : n < 65536) : bytesByB 2 (bigAtB n 2) = twoB n := by
  have e1 : n / 256 % 256 = n / 256 := by omega
  show strOfNums [((n / 256 ^ 1 % 256 : Nat) : Int), ((n / 256 ^ 0 % 256 : Nat) : Int)] = _
  rw [Nat.pow_one, Nat.pow_zero, Nat.div_one, e1]
  unfold strOfNums twoB
  have e2 : ((n : Int) / 256).toNat = n / 256 := by omega
  have e3 : ((n : Int) % 256).toNat = n % 256 := by omega
  simp [e2, e3]
theorem big_two (n : Nat) (w : World) (hn : n < 65536) : Calls Tryz.prog 139 #[.int .u64 n, .int .i64 2] w fun e w' => e = .returned (.string (twoB n)) ∧ Ext w w' := by
  have h := wbig2 n w (by omega)
  rwa [bytesBy_twoB n hn] at h
end Go.Proofs.YtndopjmdpmkgeaaGreatDoor

namespace Go.Proofs.YtndopjmdpmkgeaaGreatDoor
open Go Go.ChangeShapes Go.WideShapes Go.ChangeAt Go.RowKit
set_option linter.unusedSimpArgs false
set_option linter.unusedVariables false

theorem facts2 {w : World} {b : Nat} {x y : Value} {T : TypeId} (h : w.heap[b]? = some (.cells #[x, y] T (0, 0))) : (w.cell? ⟨b, 0, none⟩ = some x ∧ w.cell? ⟨b, 1, none⟩ = some y) ∧ w.frozen? ⟨b, 0, none⟩ = false ∧ w.frozen? ⟨b, 1, none⟩ = false := by
  refine ⟨?_, by simp [World.frozen?, h], by simp [World.frozen?, h]⟩
  simp only [World.cell?, h]
  exact ⟨rfl, rfl⟩
theorem facts3 {w : World} {b : Nat} {x y z : Value} {T : TypeId} (h : w.heap[b]? = some (.cells #[x, y, z] T (0, 0))) : (w.cell? ⟨b, 0, none⟩ = some x ∧ w.cell? ⟨b, 1, none⟩ = some y ∧ w.cell? ⟨b, 2, none⟩ = some z) ∧ w.frozen? ⟨b, 0, none⟩ = false ∧ w.frozen? ⟨b, 1, none⟩ = false ∧ w.frozen? ⟨b, 2, none⟩ = false := by
  refine ⟨?_, by simp [World.frozen?, h], by simp [World.frozen?, h], by simp [World.frozen?, h]⟩
  simp only [World.cell?, h]
  exact ⟨rfl, rfl, rfl⟩
theorem facts4 {w : World} {b : Nat} {x y z u : Value} {T : TypeId} (h : w.heap[b]? = some (.cells #[x, y, z, u] T (0, 0))) : (w.cell? ⟨b, 0, none⟩ = some x ∧ w.cell? ⟨b, 1, none⟩ = some y ∧ w.cell? ⟨b, 2, none⟩ = some z ∧ w.cell? ⟨b, 3, none⟩ = some u) ∧ w.frozen? ⟨b, 0, none⟩ = false ∧ w.frozen? ⟨b, 1, none⟩ = false ∧ w.frozen? ⟨b, 2, none⟩ = false ∧ w.frozen? ⟨b, 3, none⟩ = false := by
  refine ⟨?_, by simp [World.frozen?, h], by simp [World.frozen?, h], by simp [World.frozen?, h], by simp [World.frozen?, h]⟩
  simp only [World.cell?, h]
  exact ⟨rfl, rfl, rfl, rfl⟩
/-- All cells of a block of two are stored: the block, the others, and what came ahead of it. -/
theorem put2 {W w : World} {b : Nat} {x y : Value} {T : TypeId} (h : w.heap[b]? = some (.cells #[x, y] T (0, 0))) (hx : Ext W w) (hb : W.heap.size ≤ b) (p q : Value) :
    ∃ wf, wf = (w.setCell ⟨b, 0, none⟩ p).setCell ⟨b, 1, none⟩ q ∧ Ext W wf ∧ wf.heap[b]? = some (.cells #[p, q] T (0, 0)) ∧ w.heap.size ≤ wf.heap.size ∧ (∀ k, k ≠ b → wf.heap[k]? = w.heap[k]?) :=
  ⟨_, rfl, (hx.setCell hb _).setCell hb _, Go.heap_setCell_same _ b 1 _ _ q (Go.heap_setCell_same w b 0 _ _ p h), by simp [World.setCell], fun k hk => by rw [heap_setCell_other _ _ _ _ hk, heap_setCell_other _ _ _ _ hk]⟩
theorem put3 {W w : World} {b : Nat} {x y z : Value} {T : TypeId} (h : w.heap[b]? = some (.cells #[x, y, z] T (0, 0))) (hx : Ext W w) (hb : W.heap.size ≤ b) (p q r : Value) :
    ∃ wf, wf = ((w.setCell ⟨b, 0, none⟩ p).setCell ⟨b, 1, none⟩ q).setCell ⟨b, 2, none⟩ r ∧ Ext W wf ∧ wf.heap[b]? = some (.cells #[p, q, r] T (0, 0)) ∧ w.heap.size ≤ wf.heap.size ∧ (∀ k, k ≠ b → wf.heap[k]? = w.heap[k]?) :=
  ⟨_, rfl, ((hx.setCell hb _).setCell hb _).setCell hb _, Go.heap_setCell_same _ b 2 _ _ r (Go.heap_setCell_same _ b 1 _ _ q (Go.heap_setCell_same w b 0 _ _ p h)), by simp [World.setCell], fun k hk => by rw [heap_setCell_other _ _ _ _ hk, heap_setCell_other _ _ _ _ hk, heap_setCell_other _ _ _ _ hk]⟩
theorem put4 {W w : World} {b : Nat} {x y z u : Value} {T : TypeId} (h : w.heap[b]? = some (.cells #[x, y, z, u] T (0, 0))) (hx : Ext W w) (hb : W.heap.size ≤ b) (p q r s : Value) :
    ∃ wf, wf = (((w.setCell ⟨b, 0, none⟩ p).setCell ⟨b, 1, none⟩ q).setCell ⟨b, 2, none⟩ r).setCell ⟨b, 3, none⟩ s ∧ Ext W wf ∧ wf.heap[b]? = some (.cells #[p, q, r, s] T (0, 0)) ∧ w.heap.size ≤ wf.heap.size ∧ (∀ k, k ≠ b → wf.heap[k]? = w.heap[k]?) :=
  ⟨_, rfl, (((hx.setCell hb _).setCell hb _).setCell hb _).setCell hb _, Go.heap_setCell_same _ b 3 _ _ s (Go.heap_setCell_same _ b 2 _ _ r (Go.heap_setCell_same _ b 1 _ _ q (Go.heap_setCell_same w b 0 _ _ p h))), by simp [World.setCell], fun k hk => by rw [heap_setCell_other _ _ _ _ hk, heap_setCell_other _ _ _ _ hk, heap_setCell_other _ _ _ _ hk, heap_setCell_other _ _ _ _ hk]⟩
end Go.Proofs.YtndopjmdpmkgeaaGreatDoor

