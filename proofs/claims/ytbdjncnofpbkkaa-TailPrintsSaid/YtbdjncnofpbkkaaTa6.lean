/-
  Layer 12: a tail that is handed in: five texts, two bytes.
-/
import Derived.Test.YtbdjncnofpbkkaaTa5
import Derived.Deep.Slices
import Derived.ChangeKeysEq
import Derived.ChangeMaps
namespace Go.Proofs.Ytbdjncnofpbkkaa
open Go Go.ChangeShapes Go.WideShapes Go.ChangeAt Go.RowKit
set_option linter.unusedSimpArgs false
set_option linter.unusedVariables false

theorem lit_u8 {k : Int} (h : (Lit.int .u8 k).wf = true) : 0 ≤ k ∧ k < 256 := by
  simp [Lit.wf, IntKind.max, IntKind.min, IntKind.signed, IntKind.bits] at h
  omega
/-- The five texts, out of the reading of their cells. -/
theorem names_read {H : Type} {enc : TypeId × Value → H} {w : World} {base : Nat} {spare : Nat → Bool} {held : Bool} {n : Nat} {cs : List Value} {x : DataW H × List MemPlace} (hl : cs.length = 5)
    (h : DataW.trod enc Try.prog w base spare held n 29 cs = some x) : ∃ a b c d e : ByteArray, cs = [.string a, .string b, .string c, .string d, .string e] := by
  match cs, hl with
  | [v0, v1, v2, v3, v4], _ =>
    have c9 : Try.prog.cellsOf 9 = 1 := by kernel_rfl
    obtain ⟨ys, n', _, _, hlen, hyl, hf⟩ := DataW.trod_struct Try.underlying29 h
    have hlen' : ys.length = 5 := hyl
    match ys, hlen' with
    | [y0, y1, y2, y3, y4], _ =>
      have f0 : DataW.trod enc Try.prog w base spare held n' 9 (([v0, v1, v2, v3, v4].drop 0).take (Try.prog.cellsOf 9)) = some y0 := hf 0 _ rfl
      have f1 : DataW.trod enc Try.prog w base spare held n' 9 (([v0, v1, v2, v3, v4].drop 1).take (Try.prog.cellsOf 9)) = some y1 := hf 1 _ rfl
      have f2 : DataW.trod enc Try.prog w base spare held n' 9 (([v0, v1, v2, v3, v4].drop 2).take (Try.prog.cellsOf 9)) = some y2 := hf 2 _ rfl
      have f3 : DataW.trod enc Try.prog w base spare held n' 9 (([v0, v1, v2, v3, v4].drop 3).take (Try.prog.cellsOf 9)) = some y3 := hf 3 _ rfl
      have f4 : DataW.trod enc Try.prog w base spare held n' 9 (([v0, v1, v2, v3, v4].drop 4).take (Try.prog.cellsOf 9)) = some y4 := hf 4 _ rfl
      rw [c9] at f0 f1 f2 f3 f4
      obtain ⟨a, g0, _, _⟩ := DataW.trod_string Try.underlying9 f0
      obtain ⟨b, g1, _, _⟩ := DataW.trod_string Try.underlying9 f1
      obtain ⟨c, g2, _, _⟩ := DataW.trod_string Try.underlying9 f2
      obtain ⟨d, g3, _, _⟩ := DataW.trod_string Try.underlying9 f3
      obtain ⟨e, g4, _, _⟩ := DataW.trod_string Try.underlying9 f4
      simp at g0 g1 g2 g3 g4
      subst g0 g1 g2 g3 g4
      exact ⟨a, b, c, d, e, rfl⟩
/-- A tail, out of the reading of its cells. -/
theorem tail_read {H : Type} {enc : TypeId × Value → H} {w : World} {base : Nat} {spare : Nat → Bool} {held : Bool} {n : Nat} {cs : List Value} {x : DataW H × List MemPlace} (hl : cs.length = 7)
    (h : DataW.trod enc Try.prog w base spare held n 31 cs = some x) : ∃ T : TailZ, cs = (tailA T).toList ∧ 0 ≤ T.track ∧ T.track < 256 ∧ 0 ≤ T.genre ∧ T.genre < 256 := by
  match cs, hl with
  | [v0, v1, v2, v3, v4, v5, v6], _ =>
    have c5 : Try.prog.cellsOf 29 = 5 := by kernel_rfl
    have c1 : Try.prog.cellsOf 5 = 1 := by kernel_rfl
    obtain ⟨ys, n', _, _, hlen, hyl, hf⟩ := DataW.trod_struct Try.underlying31 h
    have hlen' : ys.length = 3 := hyl
    match ys, hlen' with
    | [y0, y1, y2], _ =>
      have f0 : DataW.trod enc Try.prog w base spare held n' 29 (([v0, v1, v2, v3, v4, v5, v6].drop 0).take (Try.prog.cellsOf 29)) = some y0 := hf 0 _ rfl
      have f1 : DataW.trod enc Try.prog w base spare held n' 5 (([v0, v1, v2, v3, v4, v5, v6].drop 5).take (Try.prog.cellsOf 5)) = some y1 := hf 1 _ rfl
      have f2 : DataW.trod enc Try.prog w base spare held n' 5 (([v0, v1, v2, v3, v4, v5, v6].drop 6).take (Try.prog.cellsOf 5)) = some y2 := hf 2 _ rfl
      rw [c5] at f0
      rw [c1] at f1 f2
      obtain ⟨a, b, c, d, e, g0⟩ := names_read (by simp) f0
      obtain ⟨k, g1, _, k1⟩ := DataW.trod_int Try.underlying5 f1
      obtain ⟨m, g2, _, k2⟩ := DataW.trod_int Try.underlying5 f2
      simp at g0 g1 g2
      obtain ⟨rfl, rfl, rfl, rfl, rfl⟩ := g0
      subst g1 g2
      exact ⟨⟨a, b, c, d, e, k, m⟩, rfl, (lit_u8 k1).1, (lit_u8 k1).2, (lit_u8 k2).1, (lit_u8 k2).2⟩
/-- A tail that is handed in. -/
theorem open_tail {H : Type} {enc : TypeId × Value → H} {w : World} {base b0 : Nat} {spare : Nat → Bool} {held : Bool} {r : Reach} {v : Value} {d : DataW H} {p : List MemPlace}
    (hv : Value.okWide Try.prog w r b0 31 v) (h : DataW.Trod enc Try.prog w base spare held 31 v d p) : ∃ T : TailZ, v = .agg (tailA T) ∧ 0 ≤ T.track ∧ T.track < 256 ∧ 0 ≤ T.genre ∧ T.genre < 256 := by
  obtain ⟨cs, rfl, hsz⟩ := okWide_struct Try.underlying31 hv
  have c7 : Try.prog.cellsOf 31 = 7 := by kernel_rfl
  obtain ⟨fuel, hf⟩ := h
  obtain ⟨l⟩ := cs
  obtain ⟨T, h1, h2⟩ := tail_read (cs := l) (by rw [c7] at hsz; exact hsz) hf
  exact ⟨T, by rw [h1], h2⟩
/-! ### Two rows of five texts that are the same -/
theorem info_str12 : (Try.prog.info? 9).map (fun i => (i.zero, i.size, i.bytes)) = some (some (.string ⟨#[]⟩), 1, 16) := by kernel_rfl
theorem eq_texts (a b c d e : ByteArray) (w : World) : (Op.equalIn 9999 34 (.agg #[.string a, .string b, .string c, .string d, .string e]) (.agg #[.string a, .string b, .string c, .string d, .string e])).run Try.prog w = .ok true w := by
  obtain ⟨i, hi, h2⟩ := Option.map_eq_some_iff.1 info_str12
  have hc : Try.prog.cellsOf 9 = 1 := by kernel_rfl
  rw [run_equalIn_array w 9998 _ _ Try.underlying34 hi, hc]
  simp [Op.eqItems, List.range, List.range.loop, go_sem]
end Go.Proofs.Ytbdjncnofpbkkaa
