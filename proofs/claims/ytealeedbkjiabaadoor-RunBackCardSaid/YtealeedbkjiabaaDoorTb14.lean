/-
  A row of the call's own that is made longer by zero values; codes that are marked as taken.
-/
import Derived.Test.YtealeedbkjiabaaDoorTb8
namespace Go.Proofs.YtealeedbkjiabaaDoor
open Go Go.ChangeShapes Go.WideShapes Go.ChangeAt Go.RowKit
set_option linter.unusedSimpArgs false
set_option linter.unusedVariables false

section
variable {P : Program} (w : World)
theorem zero_cells (z : Value) (m : Nat) (h1 : z.cells = #[z]) : Builtin.zeroCells z.cells m = (List.replicate m z).toArray := by
  rw [h1]
  apply Array.ext
  · simp [Builtin.zeroCells]
  · intro i h2 h3
    simp [Builtin.zeroCells, Nat.mod_one]
theorem run_append_zeros (base : Nat) (t u ty e : TypeId) (k : IntKind) (i : TypeInfo) (z : Value) (ht : P.underlying t = some (.slice e)) (hu : P.underlying u = some (.int k)) (hi : P.info? e = some i) (hz : i.zero = some z)
    (hsize : i.size = 1) (hby : i.bytes = 1) (h1c : z.cells = #[z]) (h1 : z.oneCell' = true)
    (v : Value) (n : Nat) (xs : List Value) (hown : w.ownsRow base e 1 v n xs) (m : Nat) (hm : 0 < m) (hb : n + m ≤ 1000000000) (hbase : base ≤ w.heap.size) :
    ∃ v' w', (Builtin.append_ #[t, u] ty #[v, .int .i64 m]).run P w = .ok v' w' ∧ w'.ownsRow base e 1 v' (n + m) (xs ++ List.replicate m z) ∧ w.grownBy w' v.ownBlock := by
  have wm : IntKind.i64.wrap (m : Int) = (m : Int) := IntWalk.i64_in _ (by omega)
  have n1 : ¬ (m : Int) < 0 := by omega
  have n2 : ¬ (281474976710656 < (m : Int)) := by omega
  have hm0 : m ≠ 0 := by omega
  have hz1 : z.cells.size = 1 := by rw [h1c]; rfl
  have hlen : (xs ++ List.replicate m z).length = (n + m) * 1 := by rw [List.length_append, hown.1, List.length_replicate]; omega
  have grown : ∀ (old : Nat), old < n + m → ∀ (row : Option Nat),
      (w.drew.alloc (.cells (xs.toArray ++ (List.replicate m z).toArray ++ Builtin.zeroCells z.cells (grownCap w (n + m) old e - (n + m))) e)).ownsRow base e 1
        (.slice (some ⟨w.heap.size, 0, none⟩) (n + m) (grownCap w (n + m) old e)) (n + m) (xs ++ List.replicate m z) ∧
      w.grownBy (w.drew.alloc (.cells (xs.toArray ++ (List.replicate m z).toArray ++ Builtin.zeroCells z.cells (grownCap w (n + m) old e - (n + m))) e)) row := by
    intro old ho row
    have hge := grownCap_ge w (n + m) old e
    have hcm : grownCap w (n + m) old e ≤ maxLen := grownCap_le_maxLen w (n + m) old e (by unfold maxLen; omega)
    refine ⟨⟨hlen, .inr ⟨w.heap.size, _, _, rfl, hbase, heap_alloc_new w.drew _, hge, hcm, ?_, ?_⟩⟩, ⟨rfl, rfl, rfl, by simp, fun k hk _ => heap_alloc_old w.drew _ hk⟩⟩
    · simp only [Array.size_append, List.size_toArray, size_zeroCells, hz1, hown.1, List.length_replicate]
      omega
    · simp only [Array.toList_append, List.append_assoc]
      rw [← List.append_assoc, ← hlen]
      exact List.take_left
  have hzc := zero_cells z m h1c
  have hfit : ∀ old, old < n + m → ¬ (281474976710656 < Builtin.nextslicecap (n + m) old) := by
    intro old ho
    have := growslice_fits (bytes := 1) ho (by omega)
    omega
  have h63 : ¬ (9223372036854775807 < (n : Int) + (m : Int)) := by omega
  rcases hown.2 with ⟨rfl, rfl⟩ | ⟨g, cap, cur, rfl, hbg, hg, hnc, hcm, hcs, htake⟩
  · have hx : xs = [] := List.eq_nil_of_length_eq_zero (by simpa using hown.1)
    subst hx
    have hgr := grown 0 (by omega) (Value.ownBlock (.slice none 0 0))
    have hfit0 := hfit 0 (by omega)
    have h63m : ¬ (9223372036854775807 < (m : Int)) := by omega
    simp only [Nat.zero_add, List.nil_append] at hgr hfit0 ⊢
    refine ⟨_, _, ?_, hgr.1, hgr.2⟩
    simp [Builtin.append_, run_underlying ht, run_underlying hu, sizeOf, typeInfo, zeroValue, hi, hz, hsize, hby, asInt, asIntOf, wm, n1, n2, hm0, hfit0, h63m, Question.forced, run_firstCells_none, hzc, newRow, grownCap]
  · by_cases hroom : n + m ≤ cap
    · have hfit2 : n * 1 + (List.replicate m z).length ≤ cur.size := by rw [List.length_replicate, hcs]; omega
      have hst := run_storeCells_at P g (n * 1) e (List.replicate m z) 0 cur w hg (by simpa using hfit2) (fun u hu => by rw [List.eq_of_mem_replicate hu]; exact h1)
      simp only [Nat.add_zero, Nat.mul_one] at hst
      refine ⟨.slice (some ⟨g, 0, none⟩) (n + m) cap, w.setRow g (List.take n cur.toList ++ List.replicate m z ++ List.drop (n + (List.replicate m z).length) cur.toList).toArray, ?_, ⟨hlen, .inr ⟨g, cap, _, rfl, hbg, setRow_heap w g cur _ e _ hg, hroom, hcm, ?_, ?_⟩⟩, ⟨rfl, rfl, rfl, by simp, fun k _ hk => setRow_other w g k _ (fun e => hk (by simp [Value.ownBlock, e]))⟩⟩
      rotate_left
      · simp only [List.size_toArray, List.length_append, List.length_take, List.length_drop, Array.length_toList, List.length_replicate]
        omega
      · rw [← hlen]
        rw [Nat.mul_one] at htake
        rw [htake]
        exact List.take_left
      · simp [Builtin.append_, run_underlying ht, run_underlying hu, sizeOf, typeInfo, zeroValue, hi, hz, hsize, hby, asInt, asIntOf, wm, n1, n2, hm0, hroom, hzc, Addr.add_lit, hst]
    · have holds : ∀ j u, xs[j]? = some u → w.cell? ((⟨g, 0, none⟩ : Addr).add j) = some u := hown.cells (g := g) rfl
      have hgr := grown cap (by omega) (Value.ownBlock (.slice (some ⟨g, 0, none⟩) n cap))
      have hfit0 := hfit cap (by omega)
      have hfo := run_firstCells_some (P := P) w.drew 1 n ⟨g, 0, none⟩ n cap xs hown.1 (by simpa using holds)
      refine ⟨_, _, ?_, hgr.1, hgr.2⟩
      simp [Builtin.append_, run_underlying ht, run_underlying hu, sizeOf, typeInfo, zeroValue, hi, hz, hsize, hby, asInt, asIntOf, wm, n1, n2, hm0, hroom, hfit0, h63, Question.forced, hfo, hzc, newRow, grownCap]
theorem wpList_append_zeros {ops : Array Oper} {rest : List Oper} {o : Oper} {a : Act} {Q : Exit → Act → World → Prop} (hgd : o.guard = none) (s x : Operand) (t u : TypeId)
    (ho : o.op = .call { callee := .builtin .append, args := #[s, x], argTypes := #[t, u] })
    (base : Nat) (e : TypeId) (k : IntKind) (i : TypeInfo) (z : Value) (ht : P.underlying t = some (.slice e)) (hu : P.underlying u = some (.int k)) (hi : P.info? e = some i) (hz : i.zero = some z)
    (hsize : i.size = 1) (hby : i.bytes = 1) (h1c : z.cells = #[z]) (h1 : z.oneCell' = true)
    (v : Value) (n : Nat) (xs : List Value) (hs : a.eval s = v) (hown : w.ownsRow base e 1 v n xs) (m : Nat) (hx : a.eval x = .int .i64 m) (hm : 0 < m) (hb : n + m ≤ 1000000000) (hbase : base ≤ w.heap.size)
    (h : ∀ v' w', w'.ownsRow base e 1 v' (n + m) (xs ++ List.replicate m z) → w.grownBy w' v.ownBlock → wpList P ops Q rest (a.put o.dst v') w') : wpList P ops Q (o :: rest) a w :=
  wpList_plain hgd fun _ hK => by
    obtain ⟨v', w', hr, h2, h3⟩ := run_append_zeros (P := P) w base t u o.type e k i z ht hu hi hz hsize hby h1c h1 v n xs hown m hm hb hbase
    unfold Oper.wp execOp
    simp only [ho, resolve, invoke, builtin, Sem.run_bind, Sem.run_pure, Result.andThen_ok, List.map_toArray, List.map_cons, List.map_nil, hs, hx, hr]
    exact hK _ _ (h v' w' h2 h3)
end
/-! ### Codes that are taken -/
def boolCells (l : List Bool) : List Value := l.map Value.bool
theorem boolCells_len (l : List Bool) : (boolCells l).length = l.length := by simp [boolCells]
theorem info_bool : (Tryd.prog.info? 4).map (fun i => (i.zero, i.size, i.bytes)) = some (some (.bool false), 1, 1) := by kernel_rfl
theorem info_parts_bool : ∃ i, Tryd.prog.info? 4 = some i ∧ i.zero = some (.bool false) ∧ i.size = 1 ∧ i.bytes = 1 := by
  obtain ⟨i, hi, h2⟩ := Option.map_eq_some_iff.1 info_bool
  obtain ⟨h3, h4⟩ := Prod.mk.inj h2
  obtain ⟨h5, h6⟩ := Prod.mk.inj h4
  exact ⟨i, hi, h3, h5, h6⟩
/-- As many as are wanted, from one on some are marked. -/
def longer (l : List Bool) (n : Nat) : List Bool := l ++ List.replicate (n - l.length) false
theorem longer_len (l : List Bool) (n : Nat) : (longer l n).length = max l.length n := by simp [longer]; omega
def marked (l : List Bool) (f : Nat) : Nat → List Bool
  | 0 => l
  | k + 1 => (marked l f k).set (f + k) true
theorem marked_len (l : List Bool) (f : Nat) : ∀ k, (marked l f k).length = l.length
  | 0 => rfl
  | k + 1 => by rw [marked, List.length_set, marked_len]
theorem marked_get (l : List Bool) (f : Nat) : ∀ (k i : Nat), (marked l f k).getD i false = if f ≤ i ∧ i < f + k ∧ i < l.length then true else l.getD i false
  | 0, i => by rw [if_neg (by omega)]; rfl
  | k + 1, i => by
    have ih := marked_get l f k i
    rw [marked, List.getD, List.getElem?_set]
    by_cases e : f + k = i
    · rw [if_pos e, marked_len]
      subst e
      by_cases h : f + k < l.length
      · rw [if_pos h, if_pos ⟨by omega, by omega, h⟩]
        rfl
      · rw [if_neg h, if_neg (by omega)]
        simp [List.getD, List.getElem?_eq_none (Nat.le_of_not_lt h)]
    · rw [if_neg e]
      rw [List.getD] at ih
      rw [ih]
      by_cases h : f ≤ i ∧ i < f + k ∧ i < l.length
      · rw [if_pos h, if_pos (by omega)]
      · rw [if_neg h, if_neg (by omega)]
theorem longer_get (l : List Bool) (n i : Nat) : (longer l n).getD i false = l.getD i false := by
  unfold longer
  simp only [List.getD]
  by_cases h : i < l.length
  · rw [List.getElem?_append_left h]
  · rw [List.getElem?_append_right (by omega), List.getElem?_eq_none (Nat.le_of_not_lt h), List.getElem?_replicate]
    split <;> rfl
/-- A code's mark, in memory. -/
theorem bool_cell {w : World} {B : Nat} {g cap n : Nat} {l : List Bool} (ho : w.ownsRow B 4 1 (.slice (some ⟨g, 0, none⟩) n cap) n (boolCells l)) {i : Nat} (hi : i < n) : w.cell? ⟨g, i, none⟩ = some (.bool (l.getD i false)) := by
  have hl : l.length = n := by have := ho.1; rw [boolCells_len] at this; omega
  have hc := ho.cells (g := g) rfl i (.bool (l.getD i false)) (by
    have hil : i < l.length := by omega
    simp [boolCells, List.getD, hil])
  have e2 : (⟨g, 0, none⟩ : Addr).add i = ⟨g, i, none⟩ := by
    unfold Addr.add
    split <;> simp_all
  rw [e2] at hc
  exact hc
theorem bool_free {w : World} {B g cap n : Nat} {xs : List Value} (ho : w.ownsRow B 4 1 (.slice (some ⟨g, 0, none⟩) n cap) n xs) (o : Nat) : w.frozen? ⟨g, o, none⟩ = false := by
  obtain ⟨hl, h | ⟨g2, cap2, cur, e, hg, hh, hn, hmx, hs, ht⟩⟩ := ho
  · cases h.1
  · obtain ⟨rfl, rfl⟩ : g = g2 ∧ cap = cap2 := by simpa using e
    simp [World.frozen?, hh]
theorem bool_set {w : World} {B g cap n : Nat} {l : List Bool} (ho : w.ownsRow B 4 1 (.slice (some ⟨g, 0, none⟩) n cap) n (boolCells l)) (i : Nat) (b : Bool) :
    (w.setCell ⟨g, i, none⟩ (.bool b)).ownsRow B 4 1 (.slice (some ⟨g, 0, none⟩) n cap) n (boolCells (l.set i b)) := by
  obtain ⟨hl, h | ⟨g2, cap2, cur, e, hg, hh, hn, hmx, hs, ht⟩⟩ := ho
  · cases h.1
  · obtain ⟨rfl, rfl⟩ : g = g2 ∧ cap = cap2 := by simpa using e
    refine ⟨by rw [boolCells_len] at hl ⊢; simpa using hl, .inr ⟨g, cap, cur.setIfInBounds i (.bool b), rfl, hg, Go.heap_setCell_same w g i cur _ _ hh, hn, hmx, by simpa using hs, ?_⟩⟩
    rw [Array.toList_setIfInBounds, List.take_set, ht]
    simp [boolCells, List.map_set]
theorem own_slice {w : World} {B : Nat} {e : TypeId} {size : Nat} {v : Value} {n : Nat} {xs : List Value} (h : w.ownsRow B e size v n xs) : (v = .slice none 0 0 ∧ n = 0) ∨ ∃ g cap, v = .slice (some ⟨g, 0, none⟩) n cap := by
  obtain ⟨_, h | ⟨g, cap, _, e, _⟩⟩ := h
  · exact .inl h
  · exact .inr ⟨g, cap, e⟩
end Go.Proofs.YtealeedbkjiabaaDoor
