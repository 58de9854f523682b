/-
  Tables, plainly: what a piece does to the codes that are taken; what is found.
-/
import Derived.Test.YtealeedbkjiabaaDoorTb17
namespace Go.Proofs.YtealeedbkjiabaaDoor
open Go Go.RowKit
set_option linter.unusedSimpArgs false
set_option linter.unusedVariables false

theorem pieceP_form {f t c : Int} {x : ByteArray} {more : List Pr} (h : pieceP f t c x = some more) : ∃ (g : Nat → Int) (n : Nat), more = pairsN f g n ∧ 0 ≤ f ∧ 1 ≤ n ∧ f + n ≤ 1048576 := by
  unfold pieceP at h
  split at h
  · split at h
    · cases h
    · rename_i hn
      have := Option.some.inj h
      simp only [not_or, Bool.not_eq_false] at hn
      obtain ⟨n1, n2, n3, n4, n5, n6, n7⟩ := hn
      exact ⟨_, _, this.symm, by omega, by omega, by omega⟩
  · rename_i he
    split at h
    · cases h
    · rename_i hn
      have := Option.some.inj h
      simp only [not_or, Decidable.not_not] at hn
      obtain ⟨n1, n2, n3⟩ := hn
      exact ⟨_, _, this.symm, by omega, sgn_pos he, by omega⟩
/-- Which codes are marked. -/
def TakenOk (cur : List Pr) (bs : List Bool) : Prop := ∀ c : Nat, bs.getD c false = true ↔ has cur c
theorem TakenOk.nil : TakenOk [] [] := fun c => by simp [has]
theorem has_pairsN {f : Int} {g : Nat → Int} {n : Nat} {c : Int} : has (pairsN f g n) c ↔ f ≤ c ∧ c < f + n := by
  unfold has pairsN
  constructor
  · rintro ⟨p, hp, rfl⟩
    obtain ⟨i, hi, rfl⟩ := List.mem_map.1 hp
    have := List.mem_range.1 hi
    show f ≤ f + (i : Int) ∧ f + (i : Int) < f + (n : Int)
    omega
  · rintro ⟨h1, h2⟩
    exact ⟨(f + ((c - f).toNat : Int), g (c - f).toNat), List.mem_map.2 ⟨(c - f).toNat, List.mem_range.2 (by omega), rfl⟩, by show f + ((c - f).toNat : Int) = c; omega⟩
theorem join_free {cur more all2 : List Pr} {bs : List Bool} {f n : Nat} {g : Nat → Int} (hm : more = pairsN f g n) (hj : joinP cur more = some all2) (hk : TakenOk cur bs) : ∀ i, f ≤ i → i < f + n → bs.getD i false = false := by
  intro i h1 h2
  cases hb : bs.getD i false with
  | false => rfl
  | true =>
    exfalso
    have hh := (hk i).1 hb
    subst hm
    have h3 := pairsN_get (f : Int) g n (i - f) (by omega)
    have h4 := (joinP_some hj).1 _ _ h3
    have e : (f : Int) + ((i - f : Nat) : Int) = (i : Int) := by omega
    rw [show ((f : Int) + ((i - f : Nat) : Int), g (i - f)).1 = (i : Int) from e] at h4
    exact (findP_not cur i).1 h4 hh
theorem join_taken {cur more : List Pr} {bs : List Bool} {f n : Nat} {g : Nat → Int} (hm : more = pairsN f g n) (hj : joinP cur more = none) (hk : TakenOk cur bs) : ∃ i, f ≤ i ∧ i < f + n ∧ bs.getD i false = true := by
  obtain ⟨j, q, hq, h0⟩ := joinP_none hj
  subst hm
  have hjn : j < n := by
    have := (List.getElem?_eq_some_iff.1 hq).1
    rwa [pairsN_len] at this
  rw [pairsN_get (f : Int) g n j hjn] at hq
  obtain rfl := Option.some.inj hq
  refine ⟨f + j, by omega, by omega, (hk (f + j)).2 ?_⟩
  have := (findP_iff cur _).1 h0
  have e : ((f + j : Nat) : Int) = (f : Int) + (j : Int) := by omega
  rw [e]
  exact this
theorem join_marks {cur more all2 : List Pr} {bs : List Bool} {f n : Nat} {g : Nat → Int} (hc : Rising cur) (hm : more = pairsN f g n) (hj : joinP cur more = some all2) (hk : TakenOk cur bs) : TakenOk all2 (marked (longer bs (f + n)) f n) := by
  have hr := (rising_joinP hc (by rw [hm]; exact rising_pairsN _ _ _) hj).2
  intro c
  rw [marked_get, longer_len, longer_get]
  have hh : has all2 c ↔ has cur c ∨ has more c := by
    unfold has
    constructor
    · rintro ⟨p, hp, e⟩
      rcases (hr p).1 hp with h | h
      · exact .inl ⟨p, h, e⟩
      · exact .inr ⟨p, h, e⟩
    · rintro (⟨p, hp, e⟩ | ⟨p, hp, e⟩)
      · exact ⟨p, (hr p).2 (.inl hp), e⟩
      · exact ⟨p, (hr p).2 (.inr hp), e⟩
  rw [hh, hm, has_pairsN]
  have := hk c
  split
  · constructor
    · intro _
      right
      omega
    · intro _
      rfl
  · rw [this]
    constructor
    · exact .inl
    · rintro (h | h)
      · exact h
      · exfalso
        omega
theorem join_fit {cur more all2 : List Pr} {f t c : Int} {x : ByteArray} (hc : Rising cur) (hf : Fit cur) (hp : pieceP f t c x = some more) (hj : joinP cur more = some all2) : Fit all2 := by
  obtain ⟨g1, g2⟩ := pieceP_good hp
  obtain ⟨g, n, hm, h0, h1, h2⟩ := pieceP_form hp
  have hr := (rising_joinP hc g1 hj).2
  intro q hq
  rcases (hr q).1 hq with h | h
  · exact hf q h
  · have hs := (isSign_iff _).1 (g2 q h).2
    have hb : has more q.1 := ⟨q, h, rfl⟩
    rw [hm, has_pairsN] at hb
    omega
/-- The rows that the pieces have come to, so far. -/
def RowsOk (cur : List Pr) (R : List Rw) : Prop := GoodL R ∧ Once (expL R) ∧ ∀ q, q ∈ expL R ↔ q ∈ cur
theorem RowsOk.nil : RowsOk [] [] := ⟨GoodL.nil, List.Pairwise.nil, fun q => by simp [expL]⟩
theorem join_rows {cur more all2 : List Pr} {R l : List Rw} (hc : Rising cur) (hg : Rising more) (hj : joinP cur more = some all2) (h : RowsOk cur R) (hl : expL l = more) (hgl : GoodL l) : RowsOk all2 (R ++ l) := by
  obtain ⟨h1, h2, h3⟩ := h
  have hr := (rising_joinP hc hg hj).2
  refine ⟨h1.app hgl, ?_, fun q => ?_⟩
  · rw [expL_app, hl]
    refine once_app.2 ⟨h2, hg.once, fun p hp q hq e => ?_⟩
    obtain ⟨i, hi⟩ := List.getElem?_of_mem hq
    have h4 := (joinP_some hj).1 i q hi
    exact (findP_not cur q.1).1 h4 ⟨p, (h3 p).1 hp, e⟩
  · rw [expL_app, List.mem_append, h3, hl, hr]
/-! ### What is found -/
theorem tab_yes {l : List Pr} {F : List Rw} (he : expL F = l) (hg : GoodL F) {c : Int} {q : Pr} (hq : q ∈ l) (hc : q.1 = c) : ∃ (k : Nat) (r : Rw), F[k]? = some r ∧ r.f ≤ c ∧ c < r.f + r.n ∧ r.t + (c - r.f) = q.2 := by
  subst he hc
  obtain ⟨r, hr, h1, h2, h3⟩ := (mem_expL_good hg).1 hq
  obtain ⟨k, hk⟩ := List.getElem?_of_mem hr
  exact ⟨k, r, hk, h1, h2, h3.symm⟩
theorem tab_no {l : List Pr} {F : List Rw} (he : expL F = l) (hg : GoodL F) {c : Int} (hn : ¬ has l c) : ∀ r ∈ F, ¬ (r.f ≤ c ∧ c < r.f + r.n) := by
  subst he
  intro r hr h
  exact hn ⟨(c, r.t + (c - r.f)), (mem_expL_good hg).2 ⟨r, hr, h.1, h.2, rfl⟩, rfl⟩
/-- What leads back is the least code. -/
theorem rev_yes {l g : List Pr} (h : RevOf l g) (hl : Rising l) (hf : From0 l) {p : Int} (hp : ¬ revP l p < 0) : (p, revP l p) ∈ g := by
  rcases revP_iff hl hf p with ⟨h1, _⟩ | ⟨h1, h2, h3⟩
  · omega
  · exact (h.2 p _).2 ⟨h2, fun c' hc' => h3 _ hc' rfl⟩
theorem rev_no {l g : List Pr} (h : RevOf l g) (hl : Rising l) (hf : From0 l) {p : Int} (hp : revP l p < 0) : ¬ has g p := by
  rcases revP_iff hl hf p with ⟨_, h2⟩ | ⟨h1, _⟩
  · rintro ⟨q, hq, rfl⟩
    exact h2 _ ((h.2 q.1 q.2).1 hq).1 rfl
  · omega
end Go.Proofs.YtealeedbkjiabaaDoor
