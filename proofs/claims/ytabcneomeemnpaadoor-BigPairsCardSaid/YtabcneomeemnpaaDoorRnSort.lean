/-
  Pairs by rising codes, plainly: what is put in, joined, put over; what is found; what leads back.
-/
import Derived.Test.YtabcneomeemnpaaDoorRnA
namespace Go.Proofs.YtabcneomeemnpaaDoor
open Go Go.RowKit
set_option linter.unusedSimpArgs false
set_option linter.unusedVariables false

/-- By rising codes, each once. -/
def Rising (l : List Pr) : Prop := l.Pairwise fun a b => a.1 < b.1
theorem Rising.nil : Rising [] := List.Pairwise.nil
theorem rising_cons {p : Pr} {l : List Pr} : Rising (p :: l) ↔ (∀ q ∈ l, p.1 < q.1) ∧ Rising l := List.pairwise_cons
/-- Has a row a code? -/
def has (l : List Pr) (c : Int) : Prop := ∃ p ∈ l, p.1 = c
theorem mem_putP (p q : Pr) : ∀ l : List Pr, q ∈ putP l p ↔ q = p ∨ q ∈ l
  | [] => by simp [putP]
  | r :: l => by
    unfold putP
    split
    · simp
    · have ih := mem_putP p q l
      simp only [List.mem_cons, ih]
      constructor
      · rintro (h | h | h)
        · exact .inr (.inl h)
        · exact .inl h
        · exact .inr (.inr h)
      · rintro (h | h | h)
        · exact .inr (.inl h)
        · exact .inl h
        · exact .inr (.inr h)
theorem rising_putP {p : Pr} : ∀ {l : List Pr}, Rising l → ¬ has l p.1 → Rising (putP l p)
  | [], _, _ => by simp [putP, Rising]
  | r :: l, h, hn => by
    have h1 := rising_cons.1 h
    unfold putP
    split
    · rename_i hlt
      refine rising_cons.2 ⟨fun q hq => ?_, h⟩
      rcases List.mem_cons.1 hq with rfl | hq
      · exact hlt
      · have := h1.1 q hq
        omega
    · rename_i hlt
      have hne : r.1 ≠ p.1 := fun e => hn ⟨r, by simp, e⟩
      have ih := rising_putP h1.2 (fun ⟨q, hq, e⟩ => hn ⟨q, by simp [hq], e⟩)
      refine rising_cons.2 ⟨fun q hq => ?_, ih⟩
      rcases (mem_putP p q l).1 hq with rfl | hq
      · omega
      · exact h1.1 q hq
theorem findGo_iff (c : Int) : ∀ (l : List Pr) (k : Nat), 0 ≤ findGo c k l ↔ has l c
  | [], _ => by simp [findGo, has]
  | p :: l, k => by
    unfold findGo
    split
    · rename_i e
      exact ⟨fun _ => ⟨p, by simp, e⟩, fun _ => by omega⟩
    · rename_i e
      rw [findGo_iff c l (k + 1)]
      constructor
      · rintro ⟨q, hq, h⟩
        exact ⟨q, by simp [hq], h⟩
      · rintro ⟨q, hq, h⟩
        rcases List.mem_cons.1 hq with rfl | hq
        · exact absurd h e
        · exact ⟨q, hq, h⟩
theorem findP_iff (l : List Pr) (c : Int) : 0 ≤ findP l c ↔ has l c := findGo_iff c l 0
theorem findP_not (l : List Pr) (c : Int) : findP l c < 0 ↔ ¬ has l c := by
  rw [← findP_iff]
  omega
/-- Where a code is found, its pair stands. -/
theorem findGo_get (c : Int) : ∀ (l : List Pr) (k : Nat), 0 ≤ findGo c k l → ∃ (j : Nat) (p : Pr), findGo c k l = ((k + j : Nat) : Int) ∧ l[j]? = some p ∧ p.1 = c
  | [], _, h => by simp [findGo] at h
  | p :: l, k, h => by
    unfold findGo at h ⊢
    split
    · rename_i e
      exact ⟨0, p, rfl, rfl, e⟩
    · rename_i e
      rw [if_neg e] at h
      obtain ⟨j, q, h1, h2, h3⟩ := findGo_get c l (k + 1) h
      exact ⟨j + 1, q, by rw [h1]; omega, by simpa using h2, h3⟩
theorem findP_get {l : List Pr} {c : Int} (h : 0 ≤ findP l c) : ∃ (j : Nat) (p : Pr), findP l c = (j : Int) ∧ l[j]? = some p ∧ p.1 = c := by
  obtain ⟨j, p, h1, h2, h3⟩ := findGo_get c l 0 h
  exact ⟨j, p, by rw [show findP l c = findGo c 0 l from rfl, h1]; simp, h2, h3⟩
theorem rising_one {l : List Pr} (h : Rising l) {p q : Pr} (hp : p ∈ l) (hq : q ∈ l) (e : p.1 = q.1) : p = q := by
  induction l with
  | nil => simp at hp
  | cons r l ih =>
    have h1 := rising_cons.1 h
    rcases List.mem_cons.1 hp with e1 | hp2
    · rcases List.mem_cons.1 hq with e2 | hq2
      · rw [e1, e2]
      · have := h1.1 q hq2
        rw [← e1] at this
        omega
    · rcases List.mem_cons.1 hq with e2 | hq2
      · have := h1.1 p hp2
        rw [← e2] at this
        omega
      · exact ih h1.2 hp2 hq2
/-- Rows by rising codes that have the same pairs are the same. -/
theorem rising_ext : ∀ {l m : List Pr}, Rising l → Rising m → (∀ p, p ∈ l ↔ p ∈ m) → l = m
  | [], [], _, _, _ => rfl
  | [], q :: m, _, _, h => by have := (h q).2 (by simp); simp at this
  | p :: l, [], _, _, h => by have := (h p).1 (by simp); simp at this
  | p :: l, q :: m, hl, hm, h => by
    have h1 := rising_cons.1 hl
    have h2 := rising_cons.1 hm
    have e : p = q := by
      rcases List.mem_cons.1 ((h p).1 (by simp)) with e | e
      · exact e
      · rcases List.mem_cons.1 ((h q).2 (by simp)) with e2 | e2
        · exact e2.symm
        · have := h2.1 p e
          have := h1.1 q e2
          omega
    subst e
    rw [rising_ext h1.2 h2.2 (fun r => by
      constructor
      · intro hr
        rcases List.mem_cons.1 ((h r).1 (by simp [hr])) with e | e
        · subst e
          have := h1.1 r hr
          omega
        · exact e
      · intro hr
        rcases List.mem_cons.1 ((h r).2 (by simp [hr])) with e | e
        · subst e
          have := h2.1 r hr
          omega
        · exact e)]
theorem mem_foldl_put (q : Pr) : ∀ (more l : List Pr), q ∈ more.foldl putP l ↔ q ∈ l ∨ q ∈ more
  | [], l => by simp
  | p :: more, l => by
    rw [List.foldl_cons, mem_foldl_put q more, mem_putP, List.mem_cons]
    constructor
    · rintro ((h | h) | h)
      · exact .inr (.inl h)
      · exact .inl h
      · exact .inr (.inr h)
    · rintro (h | h | h)
      · exact .inl (.inr h)
      · exact .inl (.inl h)
      · exact .inr h
theorem rising_foldl : ∀ {more l : List Pr}, Rising l → Rising more → (∀ q ∈ more, ¬ has l q.1) → Rising (more.foldl putP l)
  | [], l, h, _, _ => h
  | p :: more, l, h, hm, hn => by
    have h1 := rising_cons.1 hm
    rw [List.foldl_cons]
    refine rising_foldl (rising_putP h (hn p (by simp))) h1.2 (fun q hq => ?_)
    rintro ⟨r, hr, e⟩
    rcases (mem_putP p r l).1 hr with rfl | hr
    · have := h1.1 q hq
      omega
    · exact hn q (by simp [hq]) ⟨r, hr, e⟩
theorem rising_joinP {l more r : List Pr} (hl : Rising l) (hm : Rising more) (h : joinP l more = some r) : Rising r ∧ ∀ q, q ∈ r ↔ q ∈ l ∨ q ∈ more := by
  obtain ⟨h1, h2⟩ := joinP_some h
  rw [← h2]
  refine ⟨rising_foldl hl hm (fun q hq => ?_), fun q => mem_foldl_put q more l⟩
  obtain ⟨i, hi⟩ := List.getElem?_of_mem hq
  exact (findP_not l q.1).1 (h1 i q hi)
theorem over_go (l : List Pr) : ∀ (other out : List Pr), Rising other → Rising out → (∀ q ∈ other, ¬ has l q.1 → ¬ has out q.1) →
    Rising (other.foldl (fun out q => if findP l q.1 < 0 then putP out q else out) out) ∧ ∀ q, q ∈ other.foldl (fun out q => if findP l q.1 < 0 then putP out q else out) out ↔ q ∈ out ∨ (q ∈ other ∧ ¬ has l q.1)
  | [], out, _, ho, _ => ⟨ho, fun q => by simp⟩
  | p :: other, out, hm, ho, hn => by
    have h1 := rising_cons.1 hm
    rw [List.foldl_cons]
    by_cases hf : findP l p.1 < 0
    · have hp := (findP_not l p.1).1 hf
      rw [if_pos hf]
      obtain ⟨g1, g2⟩ := over_go l other (putP out p) h1.2 (rising_putP ho (hn p (by simp) hp)) (fun q hq hq2 => by
        rintro ⟨r, hr, e⟩
        rcases (mem_putP p r out).1 hr with rfl | hr
        · have := h1.1 q hq
          omega
        · exact hn q (by simp [hq]) hq2 ⟨r, hr, e⟩)
      refine ⟨g1, fun q => ?_⟩
      rw [g2 q, mem_putP, List.mem_cons]
      constructor
      · rintro ((h | h) | h)
        · subst h
          exact .inr ⟨.inl rfl, hp⟩
        · exact .inl h
        · exact .inr ⟨.inr h.1, h.2⟩
      · rintro (h | ⟨h | h, h3⟩)
        · exact .inl (.inr h)
        · exact .inl (.inl h)
        · exact .inr ⟨h, h3⟩
    · have hp : has l p.1 := (findP_iff l p.1).1 (by omega)
      rw [if_neg hf]
      obtain ⟨g1, g2⟩ := over_go l other out h1.2 ho (fun q hq hq2 => hn q (by simp [hq]) hq2)
      refine ⟨g1, fun q => ?_⟩
      rw [g2 q, List.mem_cons]
      constructor
      · rintro (h | h)
        · exact .inl h
        · exact .inr ⟨.inr h.1, h.2⟩
      · rintro (h | ⟨h | h, h3⟩)
        · exact .inl h
        · subst h
          exact absurd hp h3
        · exact .inr ⟨h, h3⟩
theorem rising_overP {l other : List Pr} (hl : Rising l) (ho : Rising other) : Rising (overP l other) ∧ ∀ q, q ∈ overP l other ↔ q ∈ l ∨ (q ∈ other ∧ ¬ has l q.1) :=
  over_go l other l ho hl (fun q _ h => h)
theorem has_overP {l other : List Pr} (hl : Rising l) (ho : Rising other) (c : Int) : has (overP l other) c ↔ has l c ∨ has other c := by
  have h := (rising_overP hl ho).2
  constructor
  · rintro ⟨q, hq, e⟩
    rcases (h q).1 hq with h1 | h1
    · exact .inl ⟨q, h1, e⟩
    · exact .inr ⟨q, h1.1, e⟩
  · rintro (⟨q, hq, e⟩ | ⟨q, hq, e⟩)
    · exact ⟨q, (h q).2 (.inl hq), e⟩
    · by_cases hh : has l c
      · obtain ⟨r, hr, e2⟩ := hh
        exact ⟨r, (h r).2 (.inl hr), e2⟩
      · exact ⟨q, (h q).2 (.inr ⟨hq, by rw [e]; exact hh⟩), e⟩
/-- Three rows over one another, in whatever order. -/
theorem over_assoc {l m n : List Pr} (hl : Rising l) (hm : Rising m) (hn : Rising n) : overP (overP l m) n = overP l (overP m n) := by
  have h1 := rising_overP hl hm
  have h2 := rising_overP hm hn
  have h3 := rising_overP h1.1 hn
  have h4 := rising_overP hl h2.1
  refine rising_ext h3.1 h4.1 (fun q => ?_)
  rw [h3.2 q, h4.2 q, h1.2 q, h2.2 q, has_overP hl hm]
  constructor
  · rintro ((h | h) | h)
    · exact .inl h
    · exact .inr ⟨.inl h.1, h.2⟩
    · exact .inr ⟨.inr ⟨h.1, fun k => h.2 (.inr k)⟩, fun k => h.2 (.inl k)⟩
  · rintro (h | ⟨h | h, k⟩)
    · exact .inl (.inl h)
    · exact .inl (.inr ⟨h, k⟩)
    · exact .inr ⟨h.1, fun g => g.elim k h.2⟩
theorem rising_pairsN (f0 : Int) (f : Nat → Int) (n : Nat) : Rising (pairsN f0 f n) := by
  induction n with
  | zero => exact Rising.nil
  | succ n ih =>
    rw [pairsN_succ]
    refine List.pairwise_append.2 ⟨ih, List.pairwise_singleton _ _, fun a ha b hb => ?_⟩
    obtain rfl := List.mem_singleton.1 hb
    unfold pairsN at ha
    obtain ⟨i, hi, rfl⟩ := List.mem_map.1 ha
    have := List.mem_range.1 hi
    show f0 + (i : Int) < f0 + (n : Int)
    omega
/-- All codes are from 0 on. -/
def From0 (l : List Pr) : Prop := ∀ q ∈ l, 0 ≤ q.1 ∧ isSign q.2 = true
theorem sgn_signs (x : ByteArray) : allSigns (sgn x) = true := runesL_signs _ x.data.toList (Nat.le_refl _)
theorem pieceP_good {f t c : Int} {x : ByteArray} {more : List Pr} (h : pieceP f t c x = some more) : Rising more ∧ From0 more := by
  unfold pieceP at h
  split at h
  · split at h
    · cases h
    · rename_i hn
      have := Option.some.inj h
      subst this
      simp only [not_or, Bool.not_eq_false] at hn
      obtain ⟨n1, n2, n3, n4, n5, n6, n7⟩ := hn
      refine ⟨rising_pairsN _ _ _, fun q hq => ?_⟩
      unfold pairsN at hq
      obtain ⟨i, hi, rfl⟩ := List.mem_map.1 hq
      have hi := List.mem_range.1 hi
      have s1 := (isSign_iff _).1 n5
      have s2 := (isSign_iff _).1 n6
      exact ⟨by show 0 ≤ f + (i : Int); omega, (isSign_iff _).2 (by show (0 ≤ t + (i : Int) ∧ t + (i : Int) < 55296) ∨ (57343 < t + (i : Int) ∧ t + (i : Int) ≤ 1114111); omega)⟩
  · split at h
    · cases h
    · rename_i hn0 hn
      have := Option.some.inj h
      subst this
      simp only [not_or, Decidable.not_not] at hn
      obtain ⟨n1, n2, n3⟩ := hn
      refine ⟨rising_pairsN _ _ _, fun q hq => ?_⟩
      unfold pairsN at hq
      obtain ⟨i, hi, rfl⟩ := List.mem_map.1 hq
      have hi := List.mem_range.1 hi
      refine ⟨by show 0 ≤ f + (i : Int); omega, ?_⟩
      show isSign ((sgn x).getD i 0) = true
      have ha := sgn_signs x
      unfold allSigns at ha
      rw [List.all_eq_true] at ha
      have : (sgn x).getD i 0 = (sgn x)[i] := by simp [List.getD, hi]
      rw [this]
      exact ha _ (List.getElem_mem hi)
theorem madeGo_good : ∀ (vs : List Pv) (cur : List Pr) (i : Nat), Rising cur → From0 cur → Rising (madeGo cur i vs).1 ∧ From0 (madeGo cur i vs).1
  | [], cur, i, h, k => ⟨h, k⟩
  | v :: vs, cur, i, h, k => by
    cases hp : pieceP v.f v.t v.c v.x with
    | none => rw [madeGo_none hp]; exact ⟨Rising.nil, fun q hq => by simp at hq⟩
    | some more =>
      cases hj : joinP cur more with
      | none => rw [madeGo_no hp hj]; exact ⟨Rising.nil, fun q hq => by simp at hq⟩
      | some all2 =>
        rw [madeGo_some hp hj]
        obtain ⟨g1, g2⟩ := pieceP_good hp
        obtain ⟨g3, g4⟩ := rising_joinP h g1 hj
        exact madeGo_good vs all2 (i + 1) g3 (fun q hq => ((g4 q).1 hq).elim (k q) (g2 q))
theorem madeP_good (vs : List Pv) : Rising (madeP vs).1 ∧ From0 (madeP vs).1 := madeGo_good vs [] 0 Rising.nil (fun q hq => by simp at hq)
/-- What leads back: the least code of a sign. -/
theorem revP_iff : ∀ {l : List Pr}, Rising l → From0 l → ∀ p : Int, (revP l p < 0 ∧ ∀ q ∈ l, q.2 ≠ p) ∨ (0 ≤ revP l p ∧ (revP l p, p) ∈ l ∧ ∀ q ∈ l, q.2 = p → revP l p ≤ q.1)
  | [], _, _, p => .inl ⟨by simp [revP], fun q hq => by simp at hq⟩
  | r :: l, h, k, p => by
    have h1 := rising_cons.1 h
    unfold revP
    split
    · rename_i e
      refine .inr ⟨(k r (by simp)).1, by subst e; simp, fun q hq _ => ?_⟩
      rcases List.mem_cons.1 hq with rfl | hq
      · exact Int.le_refl _
      · have := h1.1 q hq
        omega
    · rename_i e
      rcases revP_iff h1.2 (fun q hq => k q (by simp [hq])) p with ⟨g1, g2⟩ | ⟨g1, g2, g3⟩
      · refine .inl ⟨g1, fun q hq => ?_⟩
        rcases List.mem_cons.1 hq with rfl | hq
        · exact e
        · exact g2 q hq
      · refine .inr ⟨g1, by simp [g2], fun q hq hp => ?_⟩
        rcases List.mem_cons.1 hq with rfl | hq
        · exact absurd hp e
        · exact g3 q hq hp
end Go.Proofs.YtabcneomeemnpaaDoor
