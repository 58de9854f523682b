/-
  The document's pairs of pieces, or the place of the first that is refused.
  A list of pieces, out of the reading of a call's argument.
-/
import Derived.Test.YtabcneomeemnpaaDoorRnA
import Derived.ChangeMaps
import Derived.ChangeSlices
import Derived.ChangeOld
import Derived.Deep.RegionHeld3
import Derived.Deep.Slices
namespace Go.Proofs.YtabcneomeemnpaaDoor
open Go Go.ChangeShapes Go.WideShapes Go.ChangeAt Go.RowKit
set_option linter.unusedSimpArgs false
set_option linter.unusedVariables false

/-- How far the document has come with the pieces: what is left comes to r. -/
def MadeTo (vs : List Pv) (r : List Pr × Int) (k : Nat) (cur : List Pr) : Prop := madeGo cur k (vs.drop k) = r
theorem drop_at {vs : List Pv} {k : Nat} {v : Pv} (h : vs[k]? = some v) : vs.drop k = v :: vs.drop (k + 1) := by
  obtain ⟨hlt, rfl⟩ := List.getElem?_eq_some_iff.1 h
  exact List.drop_eq_getElem_cons hlt
/-- What made answers. -/
def MadeEnd (w : World) (r : List Pr × Int) (e : Ending) (w' : World) : Prop :=
  Ext w w' ∧ ((r.2 < 0 ∧ ∃ a cap, e = .returned (.tuple #[.slice a r.1.length cap, .int .i64 (-1)]) ∧ IsPairs w' a r.1.length cap r.1) ∨ (¬ r.2 < 0 ∧ e = .returned (.tuple #[.slice none 0 0, .int .i64 r.2])))
theorem madeGo_len : ∀ (vs : List Pv) (cur : List Pr) (i : Nat), (∀ p ∈ vs, p.c ≤ 100 ∧ p.x.size ≤ 300) → (madeGo cur i vs).1.length ≤ cur.length + 300 * vs.length
  | [], cur, i, _ => by simp [madeGo]
  | v :: vs, cur, i, h => by
    have hv := h v (by simp)
    cases hp : pieceP v.f v.t v.c v.x with
    | none => rw [madeGo_none hp]; simp
    | some more =>
      have hml := pieceP_len hp hv.1 hv.2
      cases hj : joinP cur more with
      | none => rw [madeGo_no hp hj]; simp
      | some all2 =>
        rw [madeGo_some hp hj]
        have ih := madeGo_len vs all2 (i + 1) (fun p hp => h p (by simp [hp]))
        have := joinP_len hj
        rw [List.length_cons]
        omega
theorem madeP_len {vs : List Pv} (h : lightP vs = true) : (madeP vs).1.length ≤ 3600 := by
  unfold lightP at h
  simp only [Bool.and_eq_true, List.all_eq_true, decide_eq_true_eq] at h
  have := madeGo_len vs [] 0 (fun p hp => (lightOne_iff p).1 (h.2 p hp))
  unfold madeP
  simp at this
  omega
end Go.Proofs.YtabcneomeemnpaaDoor
namespace Go.Proofs.YtabcneomeemnpaaDoor
open Go Go.ChangeShapes Go.WideShapes Go.ChangeAt Go.RowKit
set_option linter.unusedSimpArgs false
set_option linter.unusedVariables false

instance : Inhabited Pv := ⟨⟨0, 0, 0, ⟨#[]⟩⟩⟩
theorem lit_le {k : Int} (h : (Lit.int .i64 k).wf = true) : k ≤ 9223372036854775807 := by
  simp [Lit.wf, IntKind.max, IntKind.min, IntKind.signed, IntKind.bits] at h
  omega
/-- All first codes are numbers of 64 bits. -/
def WideP (vs : List Pv) : Prop := ∀ p ∈ vs, p.f ≤ 9223372036854775807
/-- One piece, out of the reading of its four cells. -/
theorem piece_read {H : Type} {enc : TypeId × Value → H} {w : World} {base : Nat} {spare : Nat → Bool} {held : Bool} {n : Nat} {cs : List Value} {x : DataW H × List MemPlace} (hl : cs.length = 4)
    (h : DataW.trod enc Tryd.prog w base spare held n 64 cs = some x) : ∃ (k m c : Int) (s : ByteArray), cs = [.int .i64 k, .int .i32 m, .int .i64 c, .string s] ∧ k ≤ 9223372036854775807 := by
  match cs, hl with
  | [v0, v1, v2, v3], _ =>
    have c3 : Tryd.prog.cellsOf 3 = 1 := by kernel_rfl
    have c4 : Tryd.prog.cellsOf 21 = 1 := by kernel_rfl
    have c9 : Tryd.prog.cellsOf 9 = 1 := by kernel_rfl
    obtain ⟨ys, n', _, _, hlen, hyl, hf⟩ := DataW.trod_struct Tryd.underlying64 h
    have hlen' : ys.length = 4 := hyl
    match ys, hlen' with
    | [y0, y1, y2, y3], _ =>
      have f0 : DataW.trod enc Tryd.prog w base spare held n' 3 (([v0, v1, v2, v3].drop 0).take (Tryd.prog.cellsOf 3)) = some y0 := hf 0 _ rfl
      rw [c3] at f0
      have f1 : DataW.trod enc Tryd.prog w base spare held n' 21 (([v0, v1, v2, v3].drop 1).take (Tryd.prog.cellsOf 21)) = some y1 := hf 1 _ rfl
      rw [c4] at f1
      have f2 : DataW.trod enc Tryd.prog w base spare held n' 3 (([v0, v1, v2, v3].drop 2).take (Tryd.prog.cellsOf 3)) = some y2 := hf 2 _ rfl
      rw [c3] at f2
      have f3 : DataW.trod enc Tryd.prog w base spare held n' 9 (([v0, v1, v2, v3].drop 3).take (Tryd.prog.cellsOf 9)) = some y3 := hf 3 _ rfl
      rw [c9] at f3
      obtain ⟨k, g0, _, gw⟩ := DataW.trod_int Tryd.underlying3 f0
      obtain ⟨m, g1, _, _⟩ := DataW.trod_int Tryd.underlying21 f1
      obtain ⟨c, g2, _, _⟩ := DataW.trod_int Tryd.underlying3 f2
      obtain ⟨s, g3, _, _⟩ := DataW.trod_string Tryd.underlying9 f3
      simp at g0 g1 g2 g3
      subst g0 g1 g2 g3
      exact ⟨k, m, c, s, rfl, lit_le gw⟩
theorem pieces_of {w : World} {a : Addr} {len cap : Nat} (hl : len ≤ cap) (h : ∀ i, i < len → ∃ (k n c : Int) (s : ByteArray), k ≤ 9223372036854775807 ∧ w.cell? (a.add (i * 4 + 0)) = some (.int .i64 k) ∧ w.cell? (a.add (i * 4 + 1)) = some (.int .i32 n) ∧ w.cell? (a.add (i * 4 + 2)) = some (.int .i64 c) ∧ w.cell? (a.add (i * 4 + 3)) = some (.string s)) : ∃ vs, IsPieces w (some a) len cap vs ∧ WideP vs := by
  by_cases hz : len = 0
  · exact ⟨[], ⟨by simp [hz], .inl hz⟩, fun p hp => by simp at hp⟩
  · obtain ⟨x, off, spot⟩ := a
    obtain ⟨k, n, c, s, _, e0, _⟩ := h 0 (by omega)
    have hspot : spot = none := by simpa [Addr.add] using World.cell?_spot e0
    subst hspot
    obtain ⟨F, hF⟩ := Go.Deep.choose_lt (α := Pv) (n := len) (p := fun i q => q.f ≤ 9223372036854775807 ∧ w.cell? ⟨x, off + i * 4, none⟩ = some (.int .i64 q.f) ∧ w.cell? ⟨x, off + i * 4 + 1, none⟩ = some (.int .i32 q.t) ∧ w.cell? ⟨x, off + i * 4 + 2, none⟩ = some (.int .i64 q.c) ∧ w.cell? ⟨x, off + i * 4 + 3, none⟩ = some (.string q.x)) (fun i hi => by
      obtain ⟨k, n, c, s, e5, e0, e1, e2, e3⟩ := h i hi
      rw [Go.WideShapes.add_plain] at e0 e1 e2 e3
      exact ⟨⟨k, n, c, s⟩, e5, e0, by rw [Nat.add_assoc]; exact e1, by rw [Nat.add_assoc]; exact e2, by rw [Nat.add_assoc]; exact e3⟩)
    have hx : x < w.heap.size := World.block_lt_of_cell? w _ (hF 0 (by omega)).2.1
    refine ⟨(List.range len).map F, ⟨by simp, .inr ⟨x, off, rfl, hl, hx, fun j p hj => ?_⟩⟩, fun p hp => ?_⟩
    rotate_left
    · obtain ⟨i, hi, rfl⟩ := List.mem_map.1 hp
      exact (hF i (List.mem_range.1 hi)).1
    have hjl : j < len := by
      have := (List.getElem?_eq_some_iff.1 hj).1
      simpa using this
    rw [List.getElem?_map, List.getElem?_range hjl] at hj
    have hj : F j = p := by simpa using hj
    rw [← hj]
    exact (hF j hjl).2
end Go.Proofs.YtabcneomeemnpaaDoor
