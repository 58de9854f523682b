/-
  Rows of numbers that a call owns; the library's sort at them.
-/
import Derived.Test.YtealeedbkjiabaaDoorTb8
import Derived.Test.YtealeedbkjiabaaDoorTb9
namespace Go.Proofs.YtealeedbkjiabaaDoor
open Go Go.ChangeShapes Go.WideShapes Go.ChangeAt Go.RowKit
open Go.Sort (PermIn SortedIn SWO grow putRow putCells mapBlock Holds)
set_option linter.unusedSimpArgs false
set_option linter.unusedVariables false

def intCells (zs : List Int) : List Value := zs.map (Value.int .i64)
theorem intCells_app (a b : List Int) : intCells (a ++ b) = intCells a ++ intCells b := by simp [intCells]
theorem intCells_len (a : List Int) : (intCells a).length = a.length := by simp [intCells]
theorem info_i64 : (Tryd.prog.info? 2).map (fun i => (i.zero, i.size, i.bytes)) = some (some (.int .i64 0), 1, 8) := by kernel_rfl
theorem info_parts_i64 : ∃ i, Tryd.prog.info? 2 = some i ∧ i.zero = some (.int .i64 0) ∧ i.size = 1 ∧ i.bytes = 8 := by
  obtain ⟨i, hi, h2⟩ := Option.map_eq_some_iff.1 info_i64
  obtain ⟨h3, h4⟩ := Prod.mk.inj h2
  obtain ⟨h5, h6⟩ := Prod.mk.inj h4
  exact ⟨i, hi, h3, h5, h6⟩
theorem make_i64 (k : Nat) (hk : k ≤ 1000000000) (w : World) : ∃ w', (Instr.makeSlice 120 (.int .i64 0) (.int .i64 (k : Int))).run Tryd.prog w = .ok (.slice (some ⟨w.heap.size, 0, none⟩) 0 k) w' ∧
    (∀ B, B ≤ w.heap.size → w'.ownsRow B 2 1 (.slice (some ⟨w.heap.size, 0, none⟩) 0 k) 0 []) ∧ w.grownBy w' none := by
  obtain ⟨i, hi, h3, h5, h6⟩ := info_parts_i64
  obtain ⟨w', h7, h8, h9⟩ := run_make_own (P := Tryd.prog) (w := w) w.heap.size 120 2 i (.int .i64 0) 1 Tryd.underlying120 hi h3 h5 .i64 .i64 k (by rw [h6]; omega) (by simp [maxLen]; omega) (Nat.le_refl _)
  exact ⟨w', h7, fun B hB => own_base h8 hB, h9⟩
theorem own1_len {w : World} {B : Nat} {v : Value} {n : Nat} {zs : List Int} (h : w.ownsRow B 2 1 v n (intCells zs)) : zs.length = n := by
  have := h.1
  rw [intCells_len] at this
  omega
theorem own1_free {w : World} {B g cap n : Nat} {xs : List Value} (ho : w.ownsRow B 2 1 (.slice (some ⟨g, 0, none⟩) n cap) n xs) (o : Nat) : w.frozen? ⟨g, o, none⟩ = false := by
  obtain ⟨hl, h | ⟨g2, cap2, cur, e, hg, hh, hn, hmx, hs, ht⟩⟩ := ho
  · cases h.1
  · obtain ⟨rfl, rfl⟩ : g = g2 ∧ cap = cap2 := by simpa using e
    simp [World.frozen?, hh]
/-- A list of numbers: none, or in memory. -/
def IsInts (w : World) (a : Option Addr) (len cap : Nat) (zs : List Int) : Prop :=
  zs.length = len ∧ (len = 0 ∨ ∃ (x off : Nat), a = some ⟨x, off, none⟩ ∧ len ≤ cap ∧ x < w.heap.size ∧ ∀ (j : Nat) z, zs[j]? = some z → w.cell? ⟨x, off + j, none⟩ = some (.int .i64 z))
theorem own_ints {w : World} {B : Nat} {v : Value} {n : Nat} {zs : List Int} (h : w.ownsRow B 2 1 v n (intCells zs)) : ∃ a cap, v = .slice a n cap ∧ IsInts w a n cap zs := by
  obtain ⟨hl, ⟨rfl, rfl⟩ | ⟨g, cap, cur, rfl, hg, hh, hn, hm, hs, ht⟩⟩ := h
  · exact ⟨none, 0, rfl, by simpa [intCells] using hl, .inl rfl⟩
  · have hbl : zs.length = n := by simpa [intCells] using hl
    refine ⟨some ⟨g, 0, none⟩, cap, rfl, hbl, .inr ⟨g, 0, rfl, hn, lt_of_block hh, fun j z hj => ?_⟩⟩
    have hjl : j < zs.length := (List.getElem?_eq_some_iff.1 hj).1
    have e1 : (intCells zs)[j]? = some (.int .i64 z) := by simp [intCells, hj]
    rw [← ht, List.getElem?_take, if_pos (by omega)] at e1
    have e2 : w.cell? ⟨g, 0 + j, none⟩ = cur.toList[j]? := by simp [World.cell?, hh]
    rw [e2, e1]
theorem ints_at {w : World} {a : Option Addr} {n cap : Nat} {zs : List Int} (h : IsInts w a n cap zs) (h0 : 0 < n) : ∃ x off, a = some ⟨x, off, none⟩ ∧ x < w.heap.size ∧ ∀ (j : Nat), j < n → ∀ w', Ext w w' → w'.cell? ⟨x, off + j, none⟩ = some (.int .i64 (zs.getD j 0)) := by
  obtain ⟨h1, h2⟩ := h
  rcases h2 with h2 | ⟨x, off, rfl, hc, hx, hcell⟩
  · omega
  · refine ⟨x, off, rfl, hx, fun j hj w' hxx => (World.cell?_of_block (hxx.block x hx)).trans (hcell j _ ?_)⟩
    rw [getD_at (by omega)]
    exact List.getElem?_eq_getElem _
theorem sorted_ints {w : World} {B g cap : Nat} {l ss : List Int} {n : Nat} (ho : w.ownsRow B 2 1 (.slice (some ⟨g, 0, none⟩) n cap) n (intCells l)) (hl : ss.length = l.length) (m : Nat) (os : Array Obj) :
    (grow (putRow (Value.int .i64) (Go.Sort.ahead w m) g 0 ss.toArray) os).ownsRow B 2 1 (.slice (some ⟨g, 0, none⟩) n cap) n (intCells ss) ∧ w.grownBy (grow (putRow (Value.int .i64) (Go.Sort.ahead w m) g 0 ss.toArray) os) (some g) := by
  have hn := own1_len ho
  obtain ⟨h1, h | ⟨g2, cap2, cur, e, hg, hh, hnc, hmx, hs, ht⟩⟩ := ho
  · cases h.1
  · obtain ⟨rfl, rfl⟩ : g = g2 ∧ cap = cap2 := by simpa using e
    have hlt := lt_of_block hh
    have hb : (grow (putRow (Value.int .i64) (Go.Sort.ahead w m) g 0 ss.toArray) os).heap[g]? = some (.cells (putCells (Value.int .i64) 0 ss.toArray cur) 2 (0, 0)) := by
      have h2 : (w.heap.modify g (Go.Sort.onCells (putCells (Value.int .i64) 0 ss.toArray)))[g]? = some (.cells (putCells (Value.int .i64) 0 ss.toArray cur) 2 (0, 0)) := by
        rw [Array.getElem?_modify, if_pos rfl, hh]
        rfl
      show ((w.heap.modify g (Go.Sort.onCells (putCells (Value.int .i64) 0 ss.toArray))) ++ os)[g]? = _
      rw [Array.getElem?_append_left (by simpa using hlt)]
      exact h2
    refine ⟨⟨by rw [intCells_len, hl, hn, Nat.mul_one], .inr ⟨g, cap, _, rfl, hg, hb, hnc, hmx, by simpa [putCells] using hs, ?_⟩⟩, ?_⟩
    · apply List.ext_getElem?
      intro t
      rw [List.getElem?_take]
      by_cases htt : t < n * 1
      · have htl : t < ss.length := by omega
        rw [if_pos htt, Array.getElem?_toList]
        unfold putCells
        rw [Array.getElem?_mapIdx, Array.getElem?_eq_getElem (xs := cur) (by omega), Option.map_some, if_pos ⟨by omega, by simp; omega⟩]
        rw [Nat.sub_zero, getElem!_pos _ t (by simpa using htl)]
        simp [intCells, htl]
      · rw [if_neg htt, List.getElem?_eq_none (by rw [intCells_len]; omega)]
    · refine ⟨rfl, rfl, rfl, ?_, fun k hk hne => ?_⟩
      · show w.heap.size ≤ ((w.heap.modify g _) ++ os).size
        simp
      · show ((w.heap.modify g _) ++ os)[k]? = _
        rw [Array.getElem?_append_left (by simpa using hk), Array.getElem?_modify, if_neg (by rintro rfl; exact hne rfl)]
theorem holds_ints {w : World} {B g cap : Nat} {l : List Int} {n : Nat} (ho : w.ownsRow B 2 1 (.slice (some ⟨g, 0, none⟩) n cap) n (intCells l)) : Holds (Value.int .i64) w g 0 l.toArray := by
  intro j hj
  have hj2 : j < l.length := by simpa using hj
  refine ⟨?_, own1_free ho _⟩
  have hc := ho.cells (g := g) rfl j (.int .i64 l[j]) (by simp [intCells, hj2])
  have e2 : (⟨g, 0, none⟩ : Addr).add j = ⟨g, 0 + j, none⟩ := by
    unfold Addr.add
    split <;> simp_all
  rw [e2] at hc
  rw [getElem!_pos _ j hj]
  exact hc
/-- The sort at a row of numbers of the call's own, also at none. -/
theorem sort64_any (v : Value) (n B : Nat) (l : List Int) (w : World) (ho : w.ownsRow B 2 1 v n (intCells l)) (hl : n ≤ 1000000000) :
    Calls Tryd.prog 82 #[v] w fun e w' => e = .returned (.tuple #[]) ∧ ∃ ss : List Int, ss.Perm l ∧ ss.Pairwise (· ≤ ·) ∧ w'.ownsRow B 2 1 v n (intCells ss) ∧ w.grownBy w' v.ownBlock := by
  have hn := own1_len ho
  obtain ⟨h1, ⟨rfl, rfl⟩ | ⟨g, cap, cur, rfl, hg, hh, hnc, hmx, hs, ht⟩⟩ := ho
  · obtain rfl := List.eq_nil_of_length_eq_zero hn
    refine (Tryd.slices_Sort_int_none none 0 w).mono ?_
    rintro e w' ⟨rfl, rfl⟩
    exact ⟨rfl, [], List.Perm.refl _, List.Pairwise.nil, World.ownsRow_nil _ _ _ _, rfl, rfl, rfl, Nat.le_refl _, fun _ _ _ => rfl⟩
  · have ho : w.ownsRow B 2 1 (.slice (some ⟨g, 0, none⟩) n cap) n (intCells l) := ⟨h1, .inr ⟨g, cap, cur, rfl, hg, hh, hnc, hmx, hs, ht⟩⟩
    have hcon := Tryd.slices_Sort_int g 0 cap l w (holds_ints ho) (lt_of_block hh) (by omega)
    rw [hn] at hcon
    refine hcon.mono ?_
    rintro e w' ⟨rfl, m, os, rfl⟩
    have hso := sorted_ints (ss := l.mergeSort fun x y => decide (x ≤ y)) ho (List.length_mergeSort l) m os
    refine ⟨rfl, _, List.mergeSort_perm l _, ?_, hso.1, hso.2⟩
    have := List.pairwise_mergeSort (le := fun x y : Int => decide (x ≤ y)) (fun a b c h1 h2 => by simp at *; omega) (fun a b => by simp; omega) l
    exact this.imp (fun h => by simpa using h)
end Go.Proofs.YtealeedbkjiabaaDoor
