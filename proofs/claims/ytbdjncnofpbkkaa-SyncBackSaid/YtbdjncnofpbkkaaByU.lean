/-
  Rows of bytes that a call makes and owns (for seats without package point's texts).
-/
import Derived.Test.YtbdjncnofpbkkaaUn1
import Derived.Laws.MakeOwn
namespace Go.Proofs.Ytbdjncnofpbkkaa
open Go Go.ChangeShapes Go.WideShapes Go.ChangeAt Go.RowKit
set_option linter.unusedSimpArgs false
set_option linter.unusedVariables false

theorem info_u8U : (Try.prog.info? 5).map (fun i => (i.zero, i.size, i.bytes)) = some (some (.int .u8 0), 1, 1) := by kernel_rfl
theorem info_parts_u8U : ∃ i, Try.prog.info? 5 = some i ∧ i.zero = some (.int .u8 0) ∧ i.size = 1 ∧ i.bytes = 1 := by
  obtain ⟨i, hi, h2⟩ := Option.map_eq_some_iff.1 info_u8U
  obtain ⟨h3, h4⟩ := Prod.mk.inj h2
  obtain ⟨h5, h6⟩ := Prod.mk.inj h4
  exact ⟨i, hi, h3, h5, h6⟩
theorem make_rowU (k : Nat) (hk : k ≤ 281474976710656) (w : World) : ∃ w', (Instr.makeSlice 52 (.int .i64 0) (.int .i64 (k : Int))).run Try.prog w = .ok (.slice (some ⟨w.heap.size, 0, none⟩) 0 k) w' ∧
    (∀ B, B ≤ w.heap.size → w'.ownsRow B 5 1 (.slice (some ⟨w.heap.size, 0, none⟩) 0 k) 0 []) ∧ w.grownBy w' none := by
  obtain ⟨i, hi, h2⟩ := Option.map_eq_some_iff.1 info_u8U
  obtain ⟨h3, h4⟩ := Prod.mk.inj h2
  obtain ⟨h5, h6⟩ := Prod.mk.inj h4
  obtain ⟨w', h7, h8, h9⟩ := run_make_own (P := Try.prog) (w := w) w.heap.size 52 5 i (.int .u8 0) 1 Try.underlying52 hi h3 h5 .i64 .i64 k (by rw [h6]; omega) (by simp [maxLen]; omega) (Nat.le_refl _)
  refine ⟨w', h7, fun B hB => ?_, h9⟩
  obtain ⟨hl, h⟩ := h8
  refine ⟨hl, ?_⟩
  rcases h with h | ⟨g, cap, cur, e, hg, h⟩
  · exact .inl h
  · exact .inr ⟨g, cap, cur, e, by omega, h⟩
theorem numsU (bs : List UInt8) : strOfNums (bs.map fun b => (b.toNat : Int)) = ⟨bs.toArray⟩ := by
  unfold strOfNums
  congr 2
  rw [List.map_map]
  conv => rhs; rw [← List.map_id bs]
  apply List.map_congr_left
  intro x _
  simp
theorem own_stringU {w : World} {B : Nat} {v : Value} {n : Nat} {bs : List UInt8} (h : w.ownsRow B 5 1 v n (Lib.byteCells bs)) : (convert 52 9 v).run Try.prog w = .ok (.string (bsU bs)) w := by
  obtain ⟨hl, ⟨rfl, rfl⟩ | ⟨g, cap, cur, rfl, hg, hh, hn, hm, hs, ht⟩⟩ := h
  · have e : bs = [] := by simpa [Lib.byteCells] using hl
    subst e
    exact run_convert_bytes_nil w 52 5 Try.underlying52 Try.underlying5 0 0 9 Try.underlying9
  · have hbl : bs.length = n := by simpa [Lib.byteCells] using hl
    have hr := run_convert_bytes_arg w 52 5 Try.underlying52 Try.underlying5 g 0 n cap (bs.map fun b => (b.toNat : Int)) (by simpa using hbl) (fun i hi => by
      have hi2 : i < bs.length := by omega
      have e1 : (Lib.byteCells bs)[i]? = some (.int .u8 (bs[i].toNat : Int)) := by simp [Lib.byteCells, hi2]
      rw [← ht, List.getElem?_take, if_pos (by omega)] at e1
      have e2 : w.cell? ⟨g, 0 + i, none⟩ = cur.toList[i]? := by simp [World.cell?, hh]
      rw [e2, e1]
      simp [List.getD, hi2]) 9 Try.underlying9
    rw [hr, numsU]
    rfl
theorem byteCells_appU (a b : List UInt8) : Lib.byteCells (a ++ b) = Lib.byteCells a ++ Lib.byteCells b := by simp [Lib.byteCells]
theorem cell_one_newU (w : World) (a : Value) (t : TypeId) : ∀ j u, [a][j]? = some u → (w.alloc (.cells #[a] t)).cell? ((⟨w.heap.size, 0, none⟩ : Addr).add j) = some u := by
  intro j u hj
  match j, hj with
  | 0, hj => simp at hj; subst hj; simp [Addr.add]
  | j + 1, hj => simp at hj
end Go.Proofs.Ytbdjncnofpbkkaa
