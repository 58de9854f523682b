/-
  What rows have at keys that others haven't, plainly.
  What rows have at keys that others haven't.
-/
import Derived.Test.YtabcneomeemnpaaDoorTbA
import Derived.Test.YtabcneomeemnpaaDoorTbC
import Derived.Deep.RegionWith
namespace Go.Proofs.YtabcneomeemnpaaDoor
open Go Go.RowKit
set_option linter.unusedSimpArgs false
set_option linter.unusedVariables false

/-- Does a pair's key lie in none of the rows? -/
def outB (O : List Rw) (q : Pr) : Bool := O.all fun r => decide (q.1 < r.f ∨ r.f + r.n ≤ q.1)
theorem outB_iff {O : List Rw} {q : Pr} : outB O q = true ↔ ∀ o ∈ O, q.1 < o.f ∨ o.f + o.n ≤ q.1 := by simp [outB]
theorem outB_has {O : List Rw} (hg : GoodL O) {q : Pr} : outB O q = true ↔ ¬ has (expL O) q.1 := by
  rw [outB_iff]
  constructor
  · rintro h ⟨p, hp, e⟩
    obtain ⟨r, hr, h1, h2, _⟩ := (mem_expL_good hg).1 hp
    have := h r hr
    omega
  · intro h o ho
    by_cases h1 : q.1 < o.f ∨ o.f + o.n ≤ q.1
    · exact h1
    · exact absurd ⟨(q.1, o.t + (q.1 - o.f)), (mem_expL_good hg).2 ⟨o, ho, by show o.f ≤ q.1; omega, by show q.1 < o.f + o.n; omega, rfl⟩, rfl⟩ h
def WoOut (R O : List Rw) (k d : Nat) (out : List Pr) : Prop :=
  out = (expL (R.take k)).filter (outB O) ∧ ∀ (i : Nat) (o : Rw), i < d → O[i]? = some o → ∀ (j : Nat) (r : Rw), k ≤ j → R[j]? = some r → o.f + o.n ≤ r.f
def WoIn (R O : List Rw) (k d j : Nat) (rr : Rw) (out : List Pr) : Prop :=
  ∃ (r : Rw) (pre : List Pr), R[k]? = some r ∧ expR r = pre ++ expR rr ∧ out = (expL (R.take k) ++ pre).filter (outB O) ∧ rr.f + rr.n = r.f + r.n ∧ Good0 rr ∧ ∀ (i : Nat) (o : Rw), i < d + j → O[i]? = some o → o.f + o.n ≤ rr.f ∨ rr.n = 0
theorem rise_at {R : List Rw} (hr : RisingR R) {i j : Nat} {a b : Rw} (hij : i < j) (hi : R[i]? = some a) (hj : R[j]? = some b) : a.f + a.n ≤ b.f := by
  obtain ⟨h1, rfl⟩ := List.getElem?_eq_some_iff.1 hi
  obtain ⟨h2, rfl⟩ := List.getElem?_eq_some_iff.1 hj
  exact List.pairwise_iff_getElem.1 hr i j h1 h2 hij
theorem wo_start (R O : List Rw) : WoOut R O 0 0 [] := ⟨by simp [expL], fun i o h => by omega⟩
theorem wo_adv {R O : List Rw} {k d : Nat} {out : List Pr} {r o : Rw} (h : WoOut R O k d out) (hg : GoodL R) (hR : RisingR R) (hr : R[k]? = some r) (ho : O[d]? = some o) (hle : o.f + o.n ≤ r.f) : WoOut R O k (d + 1) out := by
  refine ⟨h.1, fun i o2 hi ho2 j r2 hj hr2 => ?_⟩
  by_cases e : i = d
  · subst e
    rw [ho] at ho2
    obtain rfl := Option.some.inj ho2
    rcases Nat.lt_or_eq_of_le hj with hlt | rfl
    · have := rise_at hR hlt hr hr2
      have := hg r (List.mem_of_getElem? hr)
      unfold GoodR at this
      omega
    · rw [hr] at hr2
      obtain rfl := Option.some.inj hr2
      exact hle
  · exact h.2 i o2 (by omega) ho2 j r2 hj hr2
theorem wo_in {R O : List Rw} {k d : Nat} {out : List Pr} {r : Rw} (h : WoOut R O k d out) (hg : GoodL R) (hr : R[k]? = some r) : WoIn R O k d 0 r out :=
  ⟨r, [], hr, rfl, by rw [h.1, List.append_nil], rfl, (hg r (List.mem_of_getElem? hr)).good0, fun i o hi ho => .inl (h.2 i o (by omega) ho k r (Nat.le_refl _) hr)⟩
theorem filter_all {l : List Pr} {p : Pr → Bool} (h : ∀ q ∈ l, p q = true) : l.filter p = l := List.filter_eq_self.2 h
theorem filter_none {l : List Pr} {p : Pr → Bool} (h : ∀ q ∈ l, p q = false) : l.filter p = [] := List.filter_eq_nil_iff.2 (fun q hq => by rw [h q hq]; decide)
/-- What is ahead of o, in a row whose first part is done. -/
theorem wo_step {R O : List Rw} {k d j : Nat} {rr o : Rw} {out : List Pr} (h : WoIn R O k d j rr out) (hg : GoodL O) (hO : RisingR O) (ho : O[d + j]? = some o) (hlt : o.f < rr.f + rr.n) :
    WoIn R O k d (j + 1) (splitB rr (o.f + o.n)) (out ++ expR (splitA rr o.f)) := by
  obtain ⟨r, pre, hr, he, rfl, hend, hgr, hdone⟩ := h
  have hgo := hg o (List.mem_of_getElem? ho)
  unfold GoodR at hgo
  have hk1 := splitK_bd rr o.f hgr.2.2.2.2
  have hk2 := splitK_bd rr (o.f + o.n) hgr.2.2.2.2
  have g2 := splitB_good rr (o.f + o.n) hgr
  have gA := splitA_good rr (o.f + o.n) hgr
  have e1 := split_exp rr (o.f + o.n) hgr
  have e2 := split_exp (splitA rr (o.f + o.n)) o.f gA
  have eA : splitA (splitA rr (o.f + o.n)) o.f = splitA rr o.f := by
    unfold splitA splitK
    congr 1
    simp only
    omega
  rw [eA] at e2
  have hmemA : ∀ q ∈ expR (splitA rr o.f), outB O q = true := by
    intro q hq
    have hm := (mem_expR (r := splitA rr o.f) hk1.1).1 hq
    have hm1 : rr.f ≤ q.1 ∧ q.1 < rr.f + splitK rr o.f := ⟨hm.1, hm.2.1⟩
    have hlo : q.1 < o.f := by
      have : splitK rr o.f ≤ max (o.f - rr.f) 0 := by unfold splitK; omega
      omega
    rw [outB_iff]
    intro p hp
    obtain ⟨i, hi⟩ := List.getElem?_of_mem hp
    rcases Nat.lt_trichotomy i (d + j) with h1 | h1 | h1
    · rcases hdone i p h1 hi with h2 | h2
      · omega
      · have : splitK rr o.f = 0 := by omega
        omega
    · subst h1
      rw [ho] at hi
      obtain rfl := Option.some.inj hi
      omega
    · have := rise_at hO h1 ho hi
      omega
  have hmemB : ∀ q ∈ expR (splitB (splitA rr (o.f + o.n)) o.f), outB O q = false := by
    intro q hq
    have hb := splitK_bd (splitA rr (o.f + o.n)) o.f hk2.1
    have hm := (mem_expR (r := splitB (splitA rr (o.f + o.n)) o.f) (by simp only [splitB]; omega)).1 hq
    simp only [splitB, splitA] at hm
    have hx : splitK ⟨rr.f, rr.t, splitK rr (o.f + o.n)⟩ o.f = splitK rr o.f := by
      unfold splitK
      simp only
      omega
    rw [hx] at hm
    have h5 : splitK rr o.f = min (max (o.f - rr.f) 0) rr.n := rfl
    have h6 : splitK rr (o.f + o.n) = min (max (o.f + o.n - rr.f) 0) rr.n := rfl
    cases hc : outB O q with
    | false => rfl
    | true =>
      have := (outB_iff.1 hc) o (List.mem_of_getElem? ho)
      omega
  refine ⟨r, pre ++ expR (splitA rr (o.f + o.n)), hr, by rw [he, e1, List.append_assoc], ?_, ?_, g2, ?_⟩
  · rw [e2, ← List.append_assoc, List.filter_append (l₂ := expR _ ++ expR _), List.filter_append (l₁ := expR _) (l₂ := expR _), filter_all hmemA, filter_none hmemB, List.append_nil]
  · simp only [splitB]
    omega
  · intro i o2 hi ho2
    by_cases hz : (splitB rr (o.f + o.n)).n = 0
    · exact .inr hz
    · left
      simp only [splitB] at hz ⊢
      have h6 : splitK rr (o.f + o.n) = min (max (o.f + o.n - rr.f) 0) rr.n := rfl
      by_cases e : i = d + j
      · subst e
        rw [ho] at ho2
        obtain rfl := Option.some.inj ho2
        omega
      · have := rise_at hO (show i < d + j by omega) ho2 ho
        have hgo2 := hg o2 (List.mem_of_getElem? ho2)
        omega
theorem wo_out {R O : List Rw} {k d j : Nat} {rr : Rw} {out out0 : List Pr} (h : WoIn R O k d j rr out) (hO : RisingR O) (h0 : WoOut R O k d out0) (hend : ∀ o, O[d + j]? = some o → rr.f + rr.n ≤ o.f) (hgO : GoodL O) : WoOut R O (k + 1) d (out ++ expR rr) := by
  obtain ⟨r, pre, hr, he, rfl, _, hgr, hdone⟩ := h
  refine ⟨?_, fun i o hi ho j2 r2 hj hr2 => h0.2 i o hi ho j2 r2 (by omega) hr2⟩
  have hall : ∀ q ∈ expR rr, outB O q = true := by
    intro q hq
    have hm := (mem_expR hgr.2.2.2.2).1 hq
    rw [outB_iff]
    intro p hp
    obtain ⟨i, hi⟩ := List.getElem?_of_mem hp
    have hil := (List.getElem?_eq_some_iff.1 hi).1
    rcases Nat.lt_trichotomy i (d + j) with h1 | h1 | h1
    · rcases hdone i p h1 hi with h2 | h2
      · omega
      · omega
    · subst h1
      have := hend p hi
      omega
    · have hdl : d + j < O.length := by omega
      have h3 := hend O[d + j] (List.getElem?_eq_getElem hdl)
      have h4 := rise_at hO h1 (List.getElem?_eq_getElem hdl) hi
      have h5 := hgO O[d + j] (List.getElem_mem hdl)
      unfold GoodR at h5
      omega
  have e : expL (R.take (k + 1)) = expL (R.take k) ++ expR r := by
    rw [List.take_add_one, hr, expL_app]
    simp [expL_one]
  rw [e, he, ← List.append_assoc, List.filter_append (l₂ := expR rr), filter_all hall]
theorem wo_len {R O : List Rw} {k d j : Nat} {rr : Rw} {out : List Pr} (h : WoIn R O k d j rr out) : out.length ≤ tot R := by
  obtain ⟨r, pre, hr, he, rfl, _⟩ := h
  refine Nat.le_trans (List.length_filter_le _ _) ?_
  have h1 : (expL (R.take k) ++ expR r).length ≤ tot R := by
    have := tot_take_le R (k + 1)
    unfold tot at this ⊢
    rw [List.take_add_one, hr, expL_app] at this
    simpa [expL_one] using this
  rw [he, List.length_append, List.length_append] at h1
  rw [List.length_append]
  omega
theorem wo_len0 {R O : List Rw} {k d : Nat} {out : List Pr} (h : WoOut R O k d out) : out.length ≤ tot R := by
  rw [h.1]
  exact Nat.le_trans (List.length_filter_le _ _) (tot_take_le R k)
end Go.Proofs.YtabcneomeemnpaaDoor
namespace Go.Proofs.YtabcneomeemnpaaDoor
open Go Go.ChangeShapes Go.WideShapes Go.ChangeAt Go.RowKit
set_option linter.unusedSimpArgs false
set_option linter.unusedVariables false

theorem IsRws.tail {w : World} {x off n cap : Nat} {l : List Rw} (h : IsRws w (some ⟨x, off, .none⟩) (n + 1) cap l) : IsRws w (some ⟨x, off + 3, .none⟩) n (cap - 1) (l.drop 1) := by
  have := h.drop x off rfl 1 (by omega)
  simpa using this
theorem IsRws.cut {w : World} {x off n cap : Nat} {l : List Rw} (h : IsRws w (some ⟨x, off, .none⟩) (n + 1) cap l) : IsRws w (if cap = 1 then some ⟨x, off, .none⟩ else some ⟨x, off + 3, .none⟩) n (cap - 1) (l.drop 1) := by
  by_cases hc : cap = 1
  · rw [if_pos hc]
    obtain ⟨h1, h2 | ⟨x2, off2, _, h3, _⟩⟩ := h
    · omega
    · exact ⟨by simp [h1], .inl (by omega)⟩
  · rw [if_neg hc]
    exact h.tail
theorem grown_block {w w' : World} {r : Option Nat} {b : Nat} {o : Obj} (h : w.grownBy w' r) (hb : w.heap[b]? = some o) (hne : r ≠ some b) : w'.heap[b]? = some o :=
  (h.block b (lt_of_block hb) (fun e => hne e.symm)).trans hb
theorem end0_at (f t n s : Int) (w : World) (h : Good0 ⟨f, t, n⟩) (e : f + n = s) : Calls Tryd.prog 66 #[.agg #[.int .i64 f, .int .i64 t, .int .i64 n]] w fun e w' => e = .returned (.int .i64 s) ∧ Ext w w' := by
  subst e
  unfold Good0 at h
  obtain ⟨h0, h1, h2, h3, h4⟩ := h
  simp only at h0 h1 h2 h3 h4 ⊢
  go_enter Tryd.func66, Tryd.ntmps66
  go_wp2
  go_ret
  exact ⟨rfl, (Ext.refl w).alloc _⟩
theorem frozen_three {w : World} {b : Nat} {cs : Array Value} {T : TypeId} (h : w.heap[b]? = some (.cells cs T (0, 0))) : w.frozen? ⟨b, 0, none⟩ = false ∧ w.frozen? ⟨b, 1, none⟩ = false ∧ w.frozen? ⟨b, 2, none⟩ = false :=
  ⟨frozen_of_row w b 0 cs T h, frozen_of_row w b 1 cs T h, frozen_of_row w b 2 cs T h⟩
theorem set_three {w : World} {b : Nat} {x y z : Value} {T : TypeId} (h : w.heap[b]? = some (.cells #[x, y, z] T (0, 0))) (u v t : Value) :
    (((w.setCell ⟨b, 0, none⟩ u).setCell ⟨b, 1, none⟩ v).setCell ⟨b, 2, none⟩ t).heap[b]? = some (.cells #[u, v, t] T (0, 0)) :=
  Go.heap_setCell_same _ b 2 _ T t (Go.heap_setCell_same _ b 1 _ T v (Go.heap_setCell_same w b 0 _ T u h))
theorem set_far (w : World) (b c : Nat) (hne : b ≠ c) (u v t : Value) (o : Nat) : (((w.setCell ⟨b, 0, none⟩ u).setCell ⟨b, 1, none⟩ v).setCell ⟨b, 2, none⟩ t).cell? ⟨c, o, none⟩ = w.cell? ⟨c, o, none⟩ := by
  rw [World.cell?_setCell_far _ _ _ _ hne, World.cell?_setCell_far _ _ _ _ hne, World.cell?_setCell_far _ _ _ _ hne]
end Go.Proofs.YtabcneomeemnpaaDoor
