/-
  Layer 7, the code: pairs put in order.
-/
import Derived.Test.YtmfafdgmggcoiaaGreatDoorWr0
import Derived.Test.YtmfafdgmggcoiaaGreatDoorTb19
import Derived.Test.YtmfafdgmggcoiaaGreatDoorTbH
namespace Go.Proofs.YtmfafdgmggcoiaaGreatDoor
open Go Go.ChangeShapes Go.WideShapes Go.ChangeAt Go.RowKit
open Go.Sort (PermIn SortedIn SWO grow putRow putCells mapBlock Holds flatK putRowK HoldsK)
set_option linter.unusedSimpArgs false
set_option linter.unusedVariables false

/-! ### Pairs put in order -/
def encP (r : Pr) : List Value := [.int .i64 r.1, .int .i32 r.2]
theorem flat_pairs (l : List Pr) : (flatK encP 2 l.toArray).toList = pairCells l := by
  apply List.ext_getElem?
  intro t
  by_cases ht : t < l.length * 2
  · have hq : t / 2 < l.length := by omega
    obtain ⟨e1, e2⟩ := pairCells_get l (t / 2) l[t / 2] (List.getElem?_eq_getElem hq)
    have h0 : (flatK encP 2 l.toArray).toList[t]? = some ((encP l[t / 2])[t % 2]!) := by
      have := Go.Sort.get_flatK encP 2 l.toArray t (by simpa using ht)
      have hs : t < (flatK encP 2 l.toArray).size := by simpa using ht
      rw [Array.getElem?_toList, Array.getElem?_eq_getElem hs]
      rw [getElem!_pos _ t hs] at this
      rw [this, getElem!_pos l.toArray (t / 2) (by simpa using hq)]
      simp
    rw [h0]
    have h3 : t % 2 = 0 ∨ t % 2 = 1 := by omega
    rcases h3 with h | h
    · have e4 : t / 2 * 2 = t := by omega
      rw [e4] at e1
      rw [h, e1]
      rfl
    · have e4 : t / 2 * 2 + 1 = t := by omega
      rw [e4] at e2
      rw [h, e2]
      rfl
  · rw [List.getElem?_eq_none (by simp; omega), List.getElem?_eq_none (by rw [pairCells_len]; omega)]
theorem ownp_free {w : World} {B g cap n : Nat} {xs : List Value} (ho : w.ownsRow B 26 2 (.slice (some ⟨g, 0, none⟩) n cap) n xs) (o : Nat) : w.frozen? ⟨g, o, none⟩ = false := by
  obtain ⟨_, h | ⟨g2, cap2, cur, e, hg, hh, _⟩⟩ := ho
  · cases h.1
  · obtain ⟨rfl, rfl⟩ : g = g2 ∧ cap = cap2 := by simpa using e
    simp [World.frozen?, hh]
theorem ownp_len {w : World} {B n : Nat} {v : Value} {l : List Pr} (h : w.ownsRow B 26 2 v n (pairCells l)) : l.length = n := by
  have := h.1
  rw [pairCells_len] at this
  omega
theorem holds_pairs {w : World} {B g cap : Nat} {l : List Pr} {n : Nat} (ho : w.ownsRow B 26 2 (.slice (some ⟨g, 0, none⟩) n cap) n (pairCells l)) : HoldsK encP 2 w g 0 l.toArray := by
  intro j hj
  have hj2 : j < l.length * 2 := by simpa using hj
  have e : (flatK encP 2 l.toArray)[j]! = ((flatK encP 2 l.toArray).toList)[j]'(by simpa using hj2) := by
    rw [getElem!_pos _ j (by simpa using hj2)]
    simp
  refine ⟨?_, ownp_free ho _⟩
  have hc := ho.cells (g := g) rfl j ((flatK encP 2 l.toArray)[j]!) (by
    rw [← flat_pairs l, e]
    exact List.getElem?_eq_getElem _)
  have e2 : (⟨g, 0, none⟩ : Addr).add j = ⟨g, 0 + j, none⟩ := by
    unfold Addr.add
    split <;> simp_all
  rw [e2] at hc
  exact hc
theorem sortedp_own {w : World} {B g cap : Nat} {l ss : List Pr} {n : Nat} (ho : w.ownsRow B 26 2 (.slice (some ⟨g, 0, none⟩) n cap) n (pairCells l)) (hl : ss.length = l.length) (m : Nat) (os : Array Obj) :
    (sortWorldK encP 2 w g 0 m ss.toArray os).ownsRow B 26 2 (.slice (some ⟨g, 0, none⟩) n cap) n (pairCells ss) ∧ w.grownBy (sortWorldK encP 2 w g 0 m ss.toArray os) (some g) := by
  have hn := ownp_len ho
  obtain ⟨h1, h | ⟨g2, cap2, cur, e, hg, hh, hnc, hmx, hs, ht⟩⟩ := ho
  · cases h.1
  · obtain ⟨rfl, rfl⟩ : g = g2 ∧ cap = cap2 := by simpa using e
    have hlt := lt_of_block hh
    have hsz : (flatK encP 2 ss.toArray).size = n * 2 := by simp [hl, hn]
    have hb : (sortWorldK encP 2 w g 0 m ss.toArray os).heap[g]? = some (.cells (putCells id 0 (flatK encP 2 ss.toArray) cur) 26 (0, 0)) := by
      have h2 : (w.heap.modify g (Go.Sort.onCells (putCells id 0 (flatK encP 2 ss.toArray))))[g]? = some (.cells (putCells id 0 (flatK encP 2 ss.toArray) cur) 26 (0, 0)) := by
        rw [Array.getElem?_modify, if_pos rfl, hh]
        rfl
      show ((w.heap.modify g (Go.Sort.onCells (putCells id 0 (flatK encP 2 ss.toArray)))) ++ os)[g]? = _
      rw [Array.getElem?_append_left (by simpa using hlt)]
      exact h2
    refine ⟨⟨by rw [pairCells_len, hl, hn], .inr ⟨g, cap, _, rfl, hg, hb, hnc, hmx, by simpa [putCells] using hs, ?_⟩⟩, ?_⟩
    · rw [← flat_pairs ss]
      apply List.ext_getElem?
      intro t
      rw [List.getElem?_take]
      have hcap : n * 2 ≤ cap * 2 := Nat.mul_le_mul_right _ hnc
      by_cases htt : t < n * 2
      · rw [if_pos htt, Array.getElem?_toList, Array.getElem?_toList]
        unfold putCells
        rw [Array.getElem?_mapIdx, Array.getElem?_eq_getElem (xs := cur) (by omega), Option.map_some, if_pos ⟨by omega, by omega⟩, Array.getElem?_eq_getElem (xs := flatK encP 2 ss.toArray) (by omega)]
        rw [Nat.sub_zero, getElem!_pos _ t (by omega)]
        rfl
      · rw [if_neg htt, List.getElem?_eq_none (by simp; omega)]
    · refine ⟨rfl, rfl, rfl, ?_, fun k hk hne => ?_⟩
      · show w.heap.size ≤ ((w.heap.modify g _) ++ os).size
        simp
      · show ((w.heap.modify g _) ++ os)[k]? = _
        rw [Array.getElem?_append_left (by simpa using hk), Array.getElem?_modify, if_neg (by rintro rfl; exact hne rfl)]
theorem cmpp_lt (x y : Pr) : Go.Proofs.ltOf (fun x y : Pr => Lib.compareInt x.1 y.1) x y = decide (x.1 < y.1) := by
  unfold ltOf Lib.compareInt
  by_cases h1 : x.1 < y.1
  · simp [h1]
  · by_cases h2 : y.1 < x.1 <;> simp [h1, h2]
theorem cmpp_swo : SWO (ltOf fun x y : Pr => Lib.compareInt x.1 y.1) where
  irrefl x := by rw [cmpp_lt]; simp
  trans x y z h1 h2 := by rw [cmpp_lt] at *; simp at *; omega
  ntrans x y z h1 h2 := by rw [cmpp_lt] at *; simp at *; omega
set_option maxHeartbeats 1000000 in
theorem cmpp_any (x y : Pr) (W : World) : Calls Tryz.prog 11 #[.agg #[.int .i64 x.1, .int .i32 x.2], .agg #[.int .i64 y.1, .int .i32 y.2]] W fun e w' => e = .returned (.int .i64 (Lib.compareInt x.1 y.1)) ∧ ∃ q os', w' = grow (W.drewN q) os' := by
  have hcon := fun W' => Tryz.cmp_Compare_int x.1 y.1 W'
  generalize Lib.compareInt x.1 y.1 = r at hcon ⊢
  obtain ⟨xc, xp⟩ := x
  obtain ⟨yc, yp⟩ := y
  simp only at hcon ⊢
  go_enter Tryz.func11, Tryz.ntmps11
  go_wp2_with (go_at_call 12; refine (hcon _).mono ?_; rintro e w' ⟨rfl, rfl⟩)
  go_ret
  exact ⟨rfl, 0, _, by rw [Go.Sort.alloc_eq_grow, Go.Sort.alloc_eq_grow, Go.Sort.grow_grow]; rfl⟩
theorem sortp_some (g cap n B : Nat) (l : List Pr) (w : World) (ho : w.ownsRow B 26 2 (.slice (some ⟨g, 0, none⟩) n cap) n (pairCells l)) (hl : n ≤ 1000000000) :
    Calls Tryz.prog 10 #[.slice (some ⟨g, 0, none⟩) n cap, .func (.func 11) #[] #[]] w fun e w' => e = .returned (.tuple #[]) ∧ ∃ ss : List Pr, ss.Perm l ∧ (ss.Pairwise fun a b => a.1 ≤ b.1) ∧ w'.ownsRow B 26 2 (.slice (some ⟨g, 0, none⟩) n cap) n (pairCells ss) ∧ w.grownBy w' (some g) := by
  have hn := ownp_len ho
  have hlt : g < w.heap.size := (ho.lt g rfl).2
  have eg : ∀ args w, (callFunc 11 args).run Tryz.prog w = .ok (.enter 11 args) w := enters_of Tryz.func11 (by kernel_rfl) rfl
  have hcon := AnyQ.slices_SortFunc Tryz.sortPair 2 Tryz.isAgg26 Tryz.sizeOf26 encP (fun _ => rfl) (fun x v hv => by simp [encP] at hv; rcases hv with rfl | rfl <;> rfl) (fun x y : Pr => Lib.compareInt x.1 y.1) cmpp_swo 11 #[] g 0 cap l.toArray w eg (fun _ _ _ _ x y => cmpp_any x y _) (holds_pairs ho) hlt (by rw [List.size_toArray]; omega)
  rw [List.size_toArray, hn] at hcon
  change Calls Tryz.prog 10 _ _ _ at hcon
  refine hcon.mono ?_
  rintro e w' ⟨rfl, d', m, os, ⟨hp1, _, hp3⟩, hs, rfl⟩
  have hds : d'.size = n := by rw [hp1, List.size_toArray, hn]
  have ex : ∀ (d : Array Pr), d.size = n → d.extract 0 n = d := fun d h => by rw [← h]; exact Array.extract_size
  rw [ex d' hds, ex l.toArray (by rw [List.size_toArray, hn])] at hp3
  have hperm : d'.toList.Perm l := by simpa using hp3
  have hso := sortedp_own (ss := d'.toList) ho hperm.length_eq m os
  have e2 : d'.toList.toArray = d' := by simp
  rw [e2] at hso
  refine ⟨rfl, d'.toList, hperm, ?_, hso.1, hso.2⟩
  rw [List.pairwise_iff_getElem]
  intro i j hi hj hij
  have hi2 : i < d'.size := by simpa using hi
  have hj2 : j < d'.size := by simpa using hj
  have h := hs i j (Nat.zero_le _) hij (by rw [← hds]; exact hj2)
  rw [cmpp_lt, getElem!_pos d' j hj2, getElem!_pos d' i hi2] at h
  have h : ¬ d'[j].1 < d'[i].1 := by simpa using h
  simp only [Array.getElem_toList]
  omega
end Go.Proofs.YtmfafdgmggcoiaaGreatDoor
