/-
  Layer 8: what the laws use, plainly: two bytes as a text; the texts' signs; the pairs.
-/
import Derived.Test.YtabcneomeemnpaaDoorBg4
import Derived.Test.YtabcneomeemnpaaDoorOcB
import Derived.Test.YtabcneomeemnpaaDoorPrr
import Derived.Test.YtabcneomeemnpaaDoorCel
namespace Go.Proofs.YtabcneomeemnpaaDoor
open Go Go.ChangeShapes Go.WideShapes Go.ChangeAt Go.RowKit
set_option linter.unusedSimpArgs false
set_option linter.unusedVariables false

/-- The bytes of the signs with which some begin; none, if there are none. -/
def codeT (zs : List Int) : ByteArray := if (bytesB zs).2 = 0 then ⟨#[]⟩ else twoB (bytesB zs).1.toNat
theorem isRow_two (w : World) (p q : Int) (t : TypeId) : IsRow (w.alloc (.cells #[.int .i32 p, .int .i32 q] t)) (some ⟨w.heap.size, 0, none⟩) 2 2 [p, q] := by
  refine ⟨rfl, .inr ⟨w.heap.size, 0, rfl, by omega, fun j z hj => ?_⟩⟩
  have h := facts2 (heap_alloc_new w (.cells #[.int .i32 p, .int .i32 q] t))
  match j, hj with
  | 0, hj =>
    simp at hj
    subst hj
    exact h.1.1
  | 1, hj =>
    simp at hj
    subst hj
    exact h.1.2
theorem isRow_one (w : World) (p : Int) (t : TypeId) : IsRow (w.alloc (.cells #[.int .i32 p] t)) (some ⟨w.heap.size, 0, none⟩) 1 1 [p] := by
  refine ⟨rfl, .inr ⟨w.heap.size, 0, rfl, by omega, fun j z hj => ?_⟩⟩
  have h : (w.alloc (.cells #[.int .i32 p] t)).heap[w.heap.size]? = some (.cells #[.int .i32 p] t (0, 0)) := heap_alloc_new w _
  match j, hj with
  | 0, hj =>
    simp at hj
    subst hj
    simp only [World.cell?, h]
    rfl
theorem signsB_all (a b : Nat) : allSigns (signsB a b) = true := by
  unfold signsB
  rcases two_cases ((a * 256 + b : Nat) : Int) with e | ⟨c, e⟩ | ⟨c, e⟩ | ⟨c, e⟩ | ⟨c, e⟩
  · rw [e, if_neg (by decide)]
    by_cases h : oneB a b = 0
    · rw [if_neg (by rw [h]; decide)]; rfl
    · rw [if_pos h]
      have hb := oneB_bd a b
      show (isSign (oneB a b) && true) = true
      rw [(isSign_iff _).2 (by omega)]
      rfl
  all_goals
    rw [e]
    rfl
theorem sigT_runes (a b : Nat) : runesL (sigT a b).data.toList = signsB a b := by
  show runesL (encs (signsB a b)).toArray.toList = _
  rw [List.toList_toArray, runesL_encs _ (signsB_all a b)]
theorem sigT_bad (a b : Nat) : badS (sigT a b) < 0 := by
  have := badL_encs (signsB a b) 0 [] (signsB_all a b)
  rw [List.append_nil] at this
  show badL 0 (encs (signsB a b)).toArray.toList < 0
  rw [List.toList_toArray, this, badL_nil]
  decide
theorem signsB_len (a b : Nat) : (signsB a b).length ≤ 2 := by
  unfold signsB
  split
  · simp
  · split <;> simp
theorem sigT_size (a b : Nat) : (sigT a b).size ≤ 8 := by
  show (encs (signsB a b)).toArray.size ≤ 8
  rw [List.size_toArray]
  have := encs_le (signsB a b)
  have := signsB_len a b
  omega
theorem sigT_empty (a b : Nat) (h : signsB a b = []) : sigT a b = ⟨#[]⟩ := by
  unfold sigT
  rw [h]
  rfl
theorem sigT_some (a b : Nat) (h : signsB a b ≠ []) : sigT a b ≠ ⟨#[]⟩ := fun e => by
  have := sigT_runes a b
  rw [e] at this
  exact h this.symm
/-- The bytes of the signs of two bytes are those. -/
theorem codeT_signs (a b : Nat) (h : signsB a b ≠ []) : codeT (signsB a b) = twoB (a * 256 + b) ∧ (bytesB (signsB a b)).2 = ((signsB a b).length : Int) := by
  have h2 := bytes_signs a b h
  unfold codeT
  rw [h2]
  have hl : (signsB a b).length ≠ 0 := fun e => h (List.length_eq_zero_iff.1 e)
  exact ⟨by rw [if_neg (by omega), Int.toNat_natCast], rfl⟩
/-- The pairs of the cells from one on, so many. -/
def pairsGo : Nat → Nat → List Pr
  | 0, _ => []
  | k + 1, i => if cellAt i = 0 then pairsGo k (i + 1) else ((codeB i : Nat), cellAt i) :: pairsGo k (i + 1)
/-- All pairs of bytes that have one sign, by rising codes. -/
def bigPairs : List Pr := pairsGo 785 0
end Go.Proofs.YtabcneomeemnpaaDoor
