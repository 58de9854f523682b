/-
  Contracts of package johab (5): all pairs.
-/
import Derived.Test.YtbjcfepjcoefcaaJc5
import Derived.Test.YtbjcfepjcoefcaaPrr
import Derived.Deep.OwnRows
import Derived.Deep.RegionHeld3
namespace Go.Proofs.Ytbjcfepjcoefcaa
open Go Go.ChangeShapes Go.WideShapes Go.ChangeAt Go.RowKit
set_option linter.unusedSimpArgs false
set_option linter.unusedVariables false

/-- The pair of a code, if it has a sign. -/
def pairJ (c : Nat) : List Pr := if signJ c = 0 then [] else [((c : Int), signJ c)]
/-- The pairs of the codes below one, from b on. -/
def pairsJ (b : Nat) : Nat → List Pr
  | 0 => []
  | k + 1 => pairsJ b k ++ pairJ (b + k)
theorem pairJ_no {c : Nat} (h : signJ c = 0) : pairJ c = [] := if_pos h
theorem pairJ_yes {c : Nat} (h : signJ c ≠ 0) : pairJ c = [((c : Int), signJ c)] := if_neg h
theorem pairsJ_le (b : Nat) : ∀ k, (pairsJ b k).length ≤ k
  | 0 => Nat.le_refl _
  | k + 1 => by
    have := pairsJ_le b k
    have h2 : (pairJ (b + k)).length ≤ 1 := by unfold pairJ; split <;> simp
    rw [pairsJ, List.length_append]
    omega
theorem pairsJ_len (b : Nat) : ∀ k, ((pairsJ b k).length : Int) = sumR oneJ k b
  | 0 => rfl
  | k + 1 => by
    have := pairsJ_len b k
    rw [pairsJ, List.length_append, sumR, ← this]
    unfold pairJ oneJ
    split <;> simp
theorem pairsJ_lo : ∀ k, k ≤ 32768 → pairsJ 0 k = []
  | 0, _ => rfl
  | k + 1, h => by
    rw [pairsJ, pairsJ_lo k (by omega), pairJ_no (if_pos (by omega))]
    rfl
theorem pairsJ_add (b m : Nat) : ∀ n, pairsJ b (m + n) = pairsJ b m ++ pairsJ (b + m) n
  | 0 => by simp [pairsJ]
  | n + 1 => by
    rw [show m + (n + 1) = (m + n) + 1 from rfl, pairsJ, pairsJ, pairsJ_add b m n, List.append_assoc, Nat.add_assoc]
theorem pairsJ_all : pairsJ 0 65536 = pairsJ 32768 32768 := by
  rw [show 65536 = 32768 + 32768 from rfl, pairsJ_add, pairsJ_lo 32768 (Nat.le_refl _), Nat.zero_add, List.nil_append]
theorem pairsJ_count : (pairsJ 32768 32768).length = 11223 := by
  have := pairsJ_len 32768 32768
  rw [count_J] at this
  omega
set_option maxRecDepth 100000 in
set_option maxHeartbeats 2000000 in
theorem pairs_all (w : World) : Calls Try.prog 13 #[] w fun e w' => ∃ a cap, e = .returned (.slice a (pairsJ 0 65536).length cap) ∧ IsPairs w' a (pairsJ 0 65536).length cap (pairsJ 0 65536) ∧ Ext w w' := by
  obtain ⟨wm, hmk, hown, hgm⟩ := make_rpairs 11223 (by omega) w
  replace hmk : (Instr.makeSlice 34 (.int .i64 0) (.int .i64 11223)).run Try.prog w = .ok (.slice (some ⟨w.heap.size, 0, none⟩) 0 11223) wm := hmk
  have ho0 := hown w.heap.size (Nat.le_refl _)
  have hx0 : Ext w wm := Below.grown (Ext.refl w) hgm (Nat.le_refl _) (fun k hk => by cases hk)
  obtain ⟨i0, hi, hz0, hz1, hz2⟩ := info_parts_rpair
  have HS := Lib.hid (fun (c : Nat) (h : c < 65536) w => sign_of c w h)
  obtain ⟨L, hL⟩ : ∃ L, pairsJ 0 65536 = L := ⟨_, rfl⟩
  rw [hL]
  have HL := Lib.hid hL
  clear hown hgm hL
  go_enter Try.func13, Try.ntmps13
  go_wp2
  go_loopw [1, 6] (fun v i wr => ∃ (k : Nat) (ps : List Pr), k ≤ 65536 ∧ i = .int .i64 k ∧ wr.ownsRow w.heap.size 37 2 v ps.length (pairCells ps) ∧ Hid (ps = pairsJ 0 k) ∧ ps.length ≤ k ∧ Ext w wr) (fun _ i _ => 65536 - (intOf i).toNat)
  case atStart => exact ⟨0, [], by omega, rfl, ho0, rfl, Nat.le_refl _, hx0⟩
  case round =>
    obtain ⟨k, ps, hk, rfl, ho, HP, hle, hx⟩ := hrel
    clear ho0 hx0 hmk
    by_cases hlt : k < 65536
    · have h1 : (k : Int) < 65536 := by omega
      have HSk := Lib.hid (HS.out k hlt)
      by_cases hs : signJ k = 0
      · rw [hs] at HSk
        unfold SignOut at HSk
        rw [nz_no] at HSk
        have HN : Hid (ps = pairsJ 0 (k + 1)) := by
          show _ = _
          rw [pairsJ, Nat.zero_add, pairJ_no hs, List.append_nil]
          exact HP.out
        clear hs
        go_wp2_with (go_at_call 14; refine (HSk.out _).mono ?_; rintro e w2 ⟨rfl, hb2⟩; have ho2 := own_ext ho hb2; have hx2 := hx.trans hb2)
        go_roundw
        case rel => exact ⟨k + 1, ps, by omega, by go_num, ho2, HN, by omega, hx2⟩
        case measure => simp [intOf]; omega
      · unfold SignOut at HSk
        rw [nz_yes hs] at HSk
        obtain ⟨s, hsg⟩ : ∃ s, signJ k = s := ⟨_, rfl⟩
        have HN : Hid (ps ++ [((k : Int), s)] = pairsJ 0 (k + 1)) := by
          show _ = _
          rw [pairsJ, Nat.zero_add, pairJ_yes hs, hsg, ← HP.out]
        rw [hsg] at HSk
        clear hs hsg
        go_wp2_with (first
          | (go_at_call 14; refine (HSk.out _).mono ?_; rintro e w2 ⟨rfl, hb2⟩; have ho2 := own_ext ho hb2; have hx2 := hx.trans hb2; have hsz := hx2.size)
          | ((at_builtin; refine wpList_append_own _ rfl _ _ 34 rfl (w.heap.size) 37 i0 (.agg #[.int .i64 0, .int .i32 0]) 2 16 Try.underlying34 hi hz0 hz1 hz2 rfl (by decide) _ _ _ rfl (ho2.alloc _) ⟨w2.heap.size, 0, none⟩ 1 1 [.int .i64 (k : Int), .int .i32 s] rfl rfl (cell_two_new _ _ _ _) (fun x hx => by simp at hx; rcases hx with rfl | rfl <;> rfl) (by unfold maxLen; omega) (by omega) (by simp; omega) ?_; intro v5 w5 hown5 hgrow5 hnil5; clear hnil5; have hx5 := hx2.own ho2 (Nat.le_refl _) hgrow5; clear hgrow5)))
        go_roundw
        case rel =>
          refine ⟨k + 1, ps ++ [((k : Int), s)], by omega, by go_num, ?_, HN, by simp; omega, hx5⟩
          rw [pairCells_app, pairCells_one, List.length_append]
          exact hown5
        case measure => simp [intOf]; omega
    · have hk2 : k = 65536 := by omega
      subst hk2
      have hpe : ps = L := HP.out.trans HL.out
      subst hpe
      obtain ⟨a', cap', rfl, hrow⟩ := own_rpairs ho
      clear ho
      go_wp2
      go_ret
      exact ⟨a', cap', rfl, hrow, hx⟩
end Go.Proofs.Ytbjcfepjcoefcaa
