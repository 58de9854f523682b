/-
  Rows: what one has ahead of a key, and what from it on; a row put behind others.
-/
import Derived.Test.YtealeedbkjiabaaDoorTb1
namespace Go.Proofs.YtealeedbkjiabaaDoor
open Go Go.ChangeShapes Go.WideShapes Go.ChangeAt Go.RowKit
set_option linter.unusedSimpArgs false
set_option linter.unusedVariables false

set_option maxHeartbeats 1000000 in
theorem split_go (f t n key j k : Int) (w : World) (h0 : 0 ≤ f) (h1 : f + n ≤ 2097152) (h2 : 0 ≤ t) (h3 : t + n ≤ 2097152) (h4 : 0 ≤ n) (h5 : 0 ≤ key) (h6 : key ≤ 2097152) (m1 : max (key - f) 0 = j) (m2 : min j n = k) (hk0 : 0 ≤ k) (hkn : k ≤ n) :
    Calls Tryd.prog 73 #[.agg #[.int .i64 f, .int .i64 t, .int .i64 n], .int .i64 key] w fun e w' => e = .returned (.tuple #[.agg #[.int .i64 f, .int .i64 t, .int .i64 k], .agg #[.int .i64 (f + k), .int .i64 (t + k), .int .i64 (n - k)]]) ∧ Ext w w' := by
  go_enter Tryd.func73, Tryd.ntmps73
  go_wp2
  clear m1 m2 h5 h6
  go_region
  go_wp2
  refine bodyPost_ret (v := .tuple #[.agg #[.int .i64 f, .int .i64 t, .int .i64 k], .agg #[.int .i64 (f + k), .int .i64 (t + k), .int .i64 (n - k)]]) (by simp [results, Tryd.results73, go_sem]) rfl ?_
  exact ⟨rfl, Ext.drew (((Ext.refl w).alloc _ |>.alloc _).alloc _)⟩
/-- What a row has ahead of a key, and what from it on. -/
def splitK (r : Rw) (key : Int) : Int := min (max (key - r.f) 0) r.n
def splitA (r : Rw) (key : Int) : Rw := ⟨r.f, r.t, splitK r key⟩
def splitB (r : Rw) (key : Int) : Rw := ⟨r.f + splitK r key, r.t + splitK r key, r.n - splitK r key⟩
theorem splitK_bd (r : Rw) (key : Int) (h : 0 ≤ r.n) : 0 ≤ splitK r key ∧ splitK r key ≤ r.n := by unfold splitK; omega
def rowV (r : Rw) : Value := .agg #[.int .i64 r.f, .int .i64 r.t, .int .i64 r.n]
/-- A row that may be in a table, or is empty. -/
def Good0 (r : Rw) : Prop := 0 ≤ r.f ∧ r.f + r.n ≤ 2097152 ∧ 0 ≤ r.t ∧ r.t + r.n ≤ 2097152 ∧ 0 ≤ r.n
theorem split_any (r : Rw) (key : Int) (w : World) (h : Good0 r) (h5 : 0 ≤ key) (h6 : key ≤ 2097152) :
    Calls Tryd.prog 73 #[.agg #[.int .i64 r.f, .int .i64 r.t, .int .i64 r.n], .int .i64 key] w fun e w' => e = .returned (.tuple #[rowV (splitA r key), rowV (splitB r key)]) ∧ Ext w w' := by
  obtain ⟨a0, a1, a2, a3, a4⟩ := h
  have hb := splitK_bd r key a4
  exact split_go r.f r.t r.n key _ _ w a0 a1 a2 a3 a4 h5 h6 rfl rfl hb.1 hb.2
theorem splitA_good (r : Rw) (key : Int) (h : Good0 r) : Good0 (splitA r key) := by
  have hb := splitK_bd r key h.2.2.2.2
  unfold Good0 at h ⊢
  simp only [splitA]
  omega
theorem splitB_good (r : Rw) (key : Int) (h : Good0 r) : Good0 (splitB r key) := by
  have hb := splitK_bd r key h.2.2.2.2
  unfold Good0 at h ⊢
  simp only [splitB]
  omega
theorem split_exp (r : Rw) (key : Int) (h : Good0 r) : expR r = expR (splitA r key) ++ expR (splitB r key) := by
  have hb := splitK_bd r key h.2.2.2.2
  have := expR_join (splitA r key) (splitB r key) hb.1 (by simp only [splitB]; omega) rfl rfl
  rw [← this]
  congr 1
  obtain ⟨f, t, n⟩ := r
  simp only [splitA, splitB]
  congr 1
  omega
theorem Good0.good {r : Rw} (h : Good0 r) (h1 : 1 ≤ r.n) : GoodR r := ⟨h.1, h.2.1, h.2.2.1, h.2.2.2.1, h1⟩
theorem GoodR.good0 {r : Rw} (h : GoodR r) : Good0 r := ⟨h.1, h.2.1, h.2.2.1, h.2.2.2.1, by have := h.2.2.2.2; omega⟩
/-! ### A row put behind others -/
/-- What add answers: the same rows' pairs and the row's; what it made, and that nothing else has turned. -/
def AddOut (w : World) (B : Nat) (v : Value) (out : List Rw) (l : List Pr) (e : Ending) (w' : World) : Prop :=
  ∃ (v' : Value) (out' : List Rw), e = .returned v' ∧ w'.ownsRow B 90 3 v' out'.length (rowCells out') ∧ expL out' = l ∧ GoodL out' ∧ out'.length ≤ out.length + 1 ∧ w.grownBy w' v.ownBlock ∧ (v'.ownBlock = v.ownBlock ∨ ∃ g, v'.ownBlock = some g ∧ w.heap.size ≤ g)
theorem _root_.Go.World.grownBy.trans' {a b c : World} {r : Option Nat} (h : a.grownBy b r) (k : b.grownBy c r) : a.grownBy c r := grown_trans h k (.inl rfl)
theorem add_zero (f t : Int) (v : Value) (B : Nat) (out : List Rw) (w : World) (ho : w.ownsRow B 90 3 v out.length (rowCells out)) (hg : GoodL out) :
    Calls Tryd.prog 64 #[v, .agg #[.int .i64 f, .int .i64 t, .int .i64 0]] w (AddOut w B v out (expL out)) := by
  have HO := Lib.hid ho
  clear ho
  go_enter Tryd.func64, Tryd.ntmps64
  go_wp2
  go_ret
  exact ⟨v, out, rfl, HO.out.alloc _, rfl, hg, by omega, World.grownBy_alloc _ _ _, .inl rfl⟩
/-- A world that came of another one, in which some cells hold what they hold. -/
def KeepC (w : World) : List (Addr × Value) → Prop
  | [] => True
  | p :: cs => w.cell? p.1 = some p.2 ∧ KeepC w cs
theorem cell_ext {w w' : World} {a : Addr} {v : Value} (h : Ext w w') (hc : w.cell? a = some v) : w'.cell? a = some v :=
  (World.cell?_of_block (h.block _ (World.block_lt_of_cell? w _ hc))).trans hc
theorem KeepC.ext {w w' : World} (k : Ext w w') : ∀ {cs : List (Addr × Value)}, KeepC w cs → KeepC w' cs
  | [], _ => trivial
  | _ :: _, h => ⟨cell_ext k h.1, KeepC.ext k h.2⟩
def Keep (W : World) (cs : List (Addr × Value)) (w : World) : Prop := Ext W w ∧ KeepC w cs
theorem Keep.ext {W w w' : World} {cs : List (Addr × Value)} (h : Keep W cs w) (k : Ext w w') : Keep W cs w' := ⟨h.1.trans k, h.2.ext k⟩
theorem cells_three {w : World} {b : Nat} {x y z : Value} {T : TypeId} (h : w.heap[b]? = some (.cells #[x, y, z] T (0, 0))) : w.cell? ⟨b, 0, none⟩ = some x ∧ w.cell? ⟨b, 1, none⟩ = some y ∧ w.cell? ⟨b, 2, none⟩ = some z := by
  refine ⟨?_, ?_, ?_⟩ <;> simp [World.cell?, h]
theorem keep_three (w : World) (x y z : Value) (T : TypeId) : Keep (w.alloc (.cells #[x, y, z] T)) [(⟨w.heap.size, 0, none⟩, x), (⟨w.heap.size, 1, none⟩, y), (⟨w.heap.size, 2, none⟩, z)] (w.alloc (.cells #[x, y, z] T)) := by
  obtain ⟨h1, h2, h3⟩ := cells_three (heap_alloc_new w (.cells #[x, y, z] T))
  exact ⟨Ext.refl _, h1, h2, h3, trivial⟩
set_option maxHeartbeats 2000000 in
set_option maxRecDepth 100000 in
theorem add_nil (f t n : Int) (a : Option Addr) (cap : Nat) (B : Nat) (w : World) (ho : w.ownsRow B 90 3 (.slice a 0 cap) 0 (rowCells [])) (hB : B ≤ w.heap.size) (hr : GoodR ⟨f, t, n⟩) :
    Calls Tryd.prog 64 #[.slice a 0 cap, .agg #[.int .i64 f, .int .i64 t, .int .i64 n]] w (AddOut w B (.slice a 0 cap) [] (expR ⟨f, t, n⟩)) := by
  obtain ⟨i0, hi, hz0, hz1, hz2⟩ := info_parts_row
  have HO := Lib.hid ho
  have HR := Lib.hid hr
  have hn0 : (n == 0) = false := by
    have := hr.2.2.2.2
    simp only at this
    exact beq_false_of_ne (by omega)
  have hC0 := keep_three w (.int .i64 f) (.int .i64 t) (.int .i64 n) 90
  have HC := Lib.hid hC0
  clear ho hr hC0
  go_enter Tryd.func64, Tryd.ntmps64
  go_wp2
  go_quiet (fail)
  have hC := HC.out.ext ((Ext.refl _).drewN nq)
  have ho := own_ext (HO.out.alloc (.cells #[.int .i64 f, .int .i64 t, .int .i64 n] 90)) hC.1
  have hle : w.heap.size + 1 ≤ ((w.alloc (.cells #[.int .i64 f, .int .i64 t, .int .i64 n] 90)).drewN nq).heap.size := by have := hC.1.size; simp at this ⊢
  generalize (w.alloc (.cells #[.int .i64 f, .int .i64 t, .int .i64 n] 90)).drewN nq = wq at hC ho hle ⊢
  obtain ⟨b0, b1, b2, _⟩ := hC.2
  go_wp2_with ((at_builtin; refine wpList_append_fresh _ rfl _ _ 25 rfl (B) 90 i0 (.agg #[.int .i64 0, .int .i64 0, .int .i64 0]) 3 24 Tryd.underlying25 hi hz0 hz1 hz2 rfl (by decide) _ _ _ rfl (ho.alloc _) ⟨wq.heap.size, 0, none⟩ 1 1 [.int .i64 f, .int .i64 t, .int .i64 n] rfl rfl (cell_three_new _ _ _ _ _) (fun x hx => by simp at hx; rcases hx with rfl | rfl | rfl <;> rfl) (by unfold maxLen; omega) (by omega) (by simp; omega) ?_; intro v5 w5 hown5 hgrow5 hfresh5))
  go_ret
  refine ⟨v5, [⟨f, t, n⟩], rfl, ?_, by rw [expL_one], GoodL.one HR.out, by simp, ?_, ?_⟩
  · rw [rowCells_one]
    exact hown5
  · exact grown_trans (((World.grownBy_alloc w _ _).trans' (hC.1.to_grown _)).trans' (World.grownBy_alloc wq _ _)) hgrow5 (.inl rfl)
  · rcases hfresh5 with h | h
    · exact .inl h
    · exact .inr ⟨_, h, by simp; omega⟩
end Go.Proofs.YtealeedbkjiabaaDoor
