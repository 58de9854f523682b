/-
  Rows put in order: the library's sort at rows, and what stands in memory behind it.
-/
import Derived.Test.YtealeedbkjiabaaDoorTb6
import Derived.Test.YtealeedbkjiabaaDoorShelfB
import Derived.Deep.Slices
namespace Go.Proofs.YtealeedbkjiabaaDoor
open Go Go.ChangeShapes Go.WideShapes Go.ChangeAt Go.RowKit
open Go.Sort (PermIn SortedIn SWO grow putRow putCells mapBlock Holds flatK putRowK HoldsK)
set_option linter.unusedSimpArgs false
set_option linter.unusedVariables false

def encR (r : Rw) : List Value := [.int .i64 r.f, .int .i64 r.t, .int .i64 r.n]
theorem flat_rows (l : List Rw) : (flatK encR 3 l.toArray).toList = rowCells l := by
  apply List.ext_getElem?
  intro t
  by_cases ht : t < l.length * 3
  · have hq : t / 3 < l.length := by omega
    obtain ⟨e1, e2, e3⟩ := rowCells_get l (t / 3) l[t / 3] (List.getElem?_eq_getElem hq)
    have h0 : (flatK encR 3 l.toArray).toList[t]? = some ((encR l[t / 3])[t % 3]!) := by
      have := Go.Sort.get_flatK encR 3 l.toArray t (by simpa using ht)
      have hs : t < (flatK encR 3 l.toArray).size := by simpa using ht
      rw [Array.getElem?_toList, Array.getElem?_eq_getElem hs]
      rw [getElem!_pos _ t hs] at this
      rw [this, getElem!_pos l.toArray (t / 3) (by simpa using hq)]
      simp
    rw [h0]
    have h3 : t % 3 = 0 ∨ t % 3 = 1 ∨ t % 3 = 2 := by omega
    rcases h3 with h | h | h
    · have e4 : t / 3 * 3 = t := by omega
      rw [e4] at e1
      rw [h, e1]
      rfl
    · have e4 : t / 3 * 3 + 1 = t := by omega
      rw [e4] at e2
      rw [h, e2]
      rfl
    · have e4 : t / 3 * 3 + 2 = t := by omega
      rw [e4] at e3
      rw [h, e3]
      rfl
  · rw [List.getElem?_eq_none (by simp; omega), List.getElem?_eq_none (by rw [rowCells_len]; omega)]
theorem holds_rows {w : World} {B g cap : Nat} {l : List Rw} {n : Nat} (ho : w.ownsRow B 90 3 (.slice (some ⟨g, 0, none⟩) n cap) n (rowCells l)) : HoldsK encR 3 w g 0 l.toArray := by
  intro j hj
  have hj2 : j < l.length * 3 := by simpa using hj
  have e : (flatK encR 3 l.toArray)[j]! = ((flatK encR 3 l.toArray).toList)[j]'(by simpa using hj2) := by
    rw [getElem!_pos _ j (by simpa using hj2)]
    simp
  refine ⟨?_, own_free ho _⟩
  have hc := ho.cells (g := g) rfl j ((flatK encR 3 l.toArray)[j]!) (by
    rw [← flat_rows l, e]
    exact List.getElem?_eq_getElem _)
  have e2 : (⟨g, 0, none⟩ : Addr).add j = ⟨g, 0 + j, none⟩ := by
    unfold Addr.add
    split <;> simp_all
  rw [e2] at hc
  exact hc
/-- Behind the sort the row holds what it holds; nothing else has turned. -/
theorem sorted_own {w : World} {B g cap : Nat} {l ss : List Rw} {n : Nat} (ho : w.ownsRow B 90 3 (.slice (some ⟨g, 0, none⟩) n cap) n (rowCells l)) (hl : ss.length = l.length) (m : Nat) (os : Array Obj) :
    (sortWorldK encR 3 w g 0 m ss.toArray os).ownsRow B 90 3 (.slice (some ⟨g, 0, none⟩) n cap) n (rowCells ss) ∧ w.grownBy (sortWorldK encR 3 w g 0 m ss.toArray os) (some g) := by
  have hn := own_len ho
  obtain ⟨h1, h | ⟨g2, cap2, cur, e, hg, hh, hnc, hmx, hs, ht⟩⟩ := ho
  · cases h.1
  · obtain ⟨rfl, rfl⟩ : g = g2 ∧ cap = cap2 := by simpa using e
    have hlt := lt_of_block hh
    have hsz : (flatK encR 3 ss.toArray).size = n * 3 := by simp [hl, hn]
    have hb : (sortWorldK encR 3 w g 0 m ss.toArray os).heap[g]? = some (.cells (putCells id 0 (flatK encR 3 ss.toArray) cur) 90 (0, 0)) := by
      have h2 : (w.heap.modify g (Go.Sort.onCells (putCells id 0 (flatK encR 3 ss.toArray))))[g]? = some (.cells (putCells id 0 (flatK encR 3 ss.toArray) cur) 90 (0, 0)) := by
        rw [Array.getElem?_modify, if_pos rfl, hh]
        rfl
      show ((w.heap.modify g (Go.Sort.onCells (putCells id 0 (flatK encR 3 ss.toArray)))) ++ os)[g]? = _
      rw [Array.getElem?_append_left (by simpa using hlt)]
      exact h2
    refine ⟨⟨by rw [rowCells_len, hl, hn], .inr ⟨g, cap, _, rfl, hg, hb, hnc, hmx, by simpa [putCells] using hs, ?_⟩⟩, ?_⟩
    · rw [← flat_rows ss]
      apply List.ext_getElem?
      intro t
      rw [List.getElem?_take]
      have hcap : n * 3 ≤ cap * 3 := Nat.mul_le_mul_right _ hnc
      by_cases htt : t < n * 3
      · rw [if_pos htt, Array.getElem?_toList, Array.getElem?_toList]
        unfold putCells
        rw [Array.getElem?_mapIdx, Array.getElem?_eq_getElem (xs := cur) (by omega), Option.map_some, if_pos ⟨by omega, by omega⟩, Array.getElem?_eq_getElem (xs := flatK encR 3 ss.toArray) (by omega)]
        rw [Nat.sub_zero, getElem!_pos _ t (by omega)]
        rfl
      · rw [if_neg htt, List.getElem?_eq_none (by simp; omega)]
    · refine ⟨rfl, rfl, rfl, ?_, fun k hk hne => ?_⟩
      · show w.heap.size ≤ ((w.heap.modify g _) ++ os).size
        simp
      · show ((w.heap.modify g _) ++ os)[k]? = _
        rw [Array.getElem?_append_left (by simpa using hk), Array.getElem?_modify, if_neg (by rintro rfl; exact hne rfl)]
/-! ### The closure; the sort -/
theorem cmp_lt (x y : Rw) : Go.Proofs.ltOf (fun x y : Rw => Lib.compareInt x.f y.f) x y = decide (x.f < y.f) := by
  unfold ltOf Lib.compareInt
  by_cases h1 : x.f < y.f
  · simp [h1]
  · by_cases h2 : y.f < x.f <;> simp [h1, h2]
theorem cmp_swo : SWO (ltOf fun x y : Rw => Lib.compareInt x.f y.f) where
  irrefl x := by rw [cmp_lt]; simp
  trans x y z h1 h2 := by rw [cmp_lt] at *; simp at *; omega
  ntrans x y z h1 h2 := by rw [cmp_lt] at *; simp at *; omega
set_option maxHeartbeats 1000000 in
theorem cmp_any (x y : Rw) (W : World) : Calls Tryd.prog 67 #[.agg #[.int .i64 x.f, .int .i64 x.t, .int .i64 x.n], .agg #[.int .i64 y.f, .int .i64 y.t, .int .i64 y.n]] W fun e w' => e = .returned (.int .i64 (Lib.compareInt x.f y.f)) ∧ ∃ q os', w' = grow (W.drewN q) os' := by
  have hcon := fun W' => Tryd.cmp_Compare_int x.f y.f W'
  generalize Lib.compareInt x.f y.f = r at hcon ⊢
  go_enter Tryd.func67, Tryd.ntmps67
  go_wp2_with (go_at_call 68; refine (hcon _).mono ?_; rintro e w' ⟨rfl, rfl⟩)
  go_ret
  exact ⟨rfl, 0, _, by rw [Go.Sort.alloc_eq_grow, Go.Sort.alloc_eq_grow, Go.Sort.grow_grow]; rfl⟩
theorem toArray_size (l : List Rw) : l.toArray.size = l.length := by simp
theorem sort_some (g cap n B : Nat) (l : List Rw) (w : World) (ho : w.ownsRow B 90 3 (.slice (some ⟨g, 0, none⟩) n cap) n (rowCells l)) (hl : n ≤ 1000000000) :
    Calls Tryd.prog 66 #[.slice (some ⟨g, 0, none⟩) n cap, .func (.func 67) #[] #[]] w fun e w' => e = .returned (.tuple #[]) ∧ ∃ ss : List Rw, ss.Perm l ∧ (ss.Pairwise fun a b => a.f ≤ b.f) ∧ w'.ownsRow B 90 3 (.slice (some ⟨g, 0, none⟩) n cap) n (rowCells ss) ∧ w.grownBy w' (some g) := by
  have hn := own_len ho
  have hlt : g < w.heap.size := (ho.lt g rfl).2
  have eg : ∀ args w, (callFunc 67 args).run Tryd.prog w = .ok (.enter 67 args) w := enters_of Tryd.func67 (by kernel_rfl) rfl
  have hcon := AnyQ.slices_SortFunc Tryd.sortRow 3 Tryd.isAgg90 Tryd.sizeOf90 encR (fun _ => rfl) (fun x v hv => by simp [encR] at hv; rcases hv with rfl | rfl | rfl <;> rfl) (fun x y : Rw => Lib.compareInt x.f y.f) cmp_swo 67 #[] g 0 cap l.toArray w eg (fun _ _ _ _ x y => cmp_any x y _) (holds_rows ho) hlt (by rw [toArray_size]; omega)
  rw [toArray_size, hn] at hcon
  change Calls Tryd.prog 66 _ _ _ at hcon
  refine hcon.mono ?_
  rintro e w' ⟨rfl, d', m, os, ⟨hp1, _, hp3⟩, hs, rfl⟩
  have hds : d'.size = n := by rw [hp1, toArray_size, hn]
  have ex : ∀ (d : Array Rw), d.size = n → d.extract 0 n = d := fun d h => by rw [← h]; exact Array.extract_size
  rw [ex d' hds, ex l.toArray (by rw [toArray_size, hn])] at hp3
  have hperm : d'.toList.Perm l := by simpa using hp3
  have hso := sorted_own (ss := d'.toList) ho hperm.length_eq m os
  have e2 : d'.toList.toArray = d' := by simp
  rw [e2] at hso
  refine ⟨rfl, d'.toList, hperm, ?_, hso.1, hso.2⟩
  rw [List.pairwise_iff_getElem]
  intro i j hi hj hij
  have hi2 : i < d'.size := by simpa using hi
  have hj2 : j < d'.size := by simpa using hj
  have h := hs i j (Nat.zero_le _) hij (by rw [← hds]; exact hj2)
  rw [cmp_lt, getElem!_pos d' j hj2, getElem!_pos d' i hi2] at h
  have h : ¬ d'[j].f < d'[i].f := by simpa using h
  simp only [Array.getElem_toList]
  omega
end Go.Proofs.YtealeedbkjiabaaDoor
