/-
  Contracts of package johab (4): the parts of a sign, its bytes.
-/
import Derived.Test.YtbjcfepjcoefcaaJc3
namespace Go.Proofs.Ytbjcfepjcoefcaa
open Go Go.ChangeShapes Go.WideShapes Go.ChangeAt Go.RowKit
set_option linter.unusedSimpArgs false
set_option linter.unusedVariables false

theorem alone_of_hi (x : Int) (w : World) (h0 : 97 ≤ x) (h1 : x < 256) : Calls Try.prog 24 #[.int .i64 x] w fun e w' => e = .returned (.agg #[.int .i64 (-1), .int .i64 (-1), .int .i64 (x - 97)]) ∧ Ext w w' := by
  go_enter Try.func24, Try.ntmps24
  go_wp2
  refine bodyPost_ret (v := .agg #[.int .i64 (-1), .int .i64 (-1), .int .i64 (x - 97)]) (by simp [results, Try.results24, go_sem]) rfl ?_
  exact ⟨rfl, (Ext.refl w).alloc _⟩
theorem alone_of_lo (x : Int) (w : World) (h0 : 0 ≤ x) (h1 : x < 97) : Calls Try.prog 24 #[.int .i64 x] w fun e w' => e = .returned (.agg #[.int .i64 (x - 65), .int .i64 (-1), .int .i64 0]) ∧ Ext w w' := by
  have h2 : ¬ 97 ≤ x := by omega
  go_enter Try.func24, Try.ntmps24
  go_wp2
  refine bodyPost_ret (v := .agg #[.int .i64 (x - 65), .int .i64 (-1), .int .i64 0]) (by simp [results, Try.results24, go_sem]) rfl ?_
  exact ⟨rfl, (Ext.refl w).alloc _⟩
theorem parts_syl (p : Int) (w : World) (h0 : 44032 ≤ p) (h1 : p < 55204) : Calls Try.prog 19 #[.int .i32 p] w fun e w' => e = .returned (.tuple #[.agg #[.int .i64 ((p - 44032) / 28 / 21), .int .i64 ((p - 44032) / 28 % 21), .int .i64 ((p - 44032) % 28)], .bool true]) ∧ Ext w w' := by
  go_enter Try.func19, Try.ntmps19
  go_wp2
  refine bodyPost_ret (v := .tuple #[.agg #[.int .i64 ((p - 44032) / 28 / 21), .int .i64 ((p - 44032) / 28 % 21), .int .i64 ((p - 44032) % 28)], .bool true]) (by simp [results, Try.results19, go_sem]) rfl ?_
  exact ⟨rfl, (Ext.refl w).alloc _⟩
theorem parts_vow (p : Int) (w : World) (h0 : 12623 ≤ p) (h1 : p < 12644) : Calls Try.prog 19 #[.int .i32 p] w fun e w' => e = .returned (.tuple #[.agg #[.int .i64 (-1), .int .i64 (p - 12623), .int .i64 0], .bool true]) ∧ Ext w w' := by
  have h2 : ¬ 44032 ≤ p := by omega
  go_enter Try.func19, Try.ntmps19
  go_wp2
  refine bodyPost_ret (v := .tuple #[.agg #[.int .i64 (-1), .int .i64 (p - 12623), .int .i64 0], .bool true]) (by simp [results, Try.results19, go_sem]) rfl ?_
  exact ⟨rfl, (Ext.refl w).alloc _⟩
theorem parts_none (p : Int) (w : World) (h : inB p = false) (hlo : -2147483648 ≤ p) (hhi : p ≤ 2147483647) : Calls Try.prog 19 #[.int .i32 p] w fun e w' => e = .returned (.tuple #[.agg #[.int .i64 0, .int .i64 0, .int .i64 0], .bool false]) ∧ Ext w w' := by
  have hp : ¬ ((44032 ≤ p ∧ p < 55204) ∨ (12593 ≤ p ∧ p < 12644)) := fun k => by
    rw [(inB_iff p).2 k] at h
    cases h
  have hc : 55204 ≤ p ∨ (12644 ≤ p ∧ p < 44032) ∨ p < 12593 := by omega
  clear h hp
  rcases hc with hc | hc | hc
  · have g1 : 44032 ≤ p := by omega
    have g2 : ¬ p < 55204 := by omega
    have g3 : 12623 ≤ p := by omega
    have g4 : ¬ p < 12644 := by omega
    have g5 : 12593 ≤ p := by omega
    have g6 : ¬ p < 12623 := by omega
    go_enter Try.func19, Try.ntmps19
    go_wp2
    refine bodyPost_ret (v := .tuple #[.agg #[.int .i64 0, .int .i64 0, .int .i64 0], .bool false]) (by simp [results, Try.results19, go_sem]) rfl ?_
    exact ⟨rfl, (Ext.refl w).alloc _⟩
  · obtain ⟨g0, g7⟩ := hc
    have g1 : ¬ 44032 ≤ p := by omega
    have g3 : 12623 ≤ p := by omega
    have g4 : ¬ p < 12644 := by omega
    have g5 : 12593 ≤ p := by omega
    have g6 : ¬ p < 12623 := by omega
    go_enter Try.func19, Try.ntmps19
    go_wp2
    refine bodyPost_ret (v := .tuple #[.agg #[.int .i64 0, .int .i64 0, .int .i64 0], .bool false]) (by simp [results, Try.results19, go_sem]) rfl ?_
    exact ⟨rfl, (Ext.refl w).alloc _⟩
  · have g1 : ¬ 44032 ≤ p := by omega
    have g3 : ¬ 12623 ≤ p := by omega
    have g5 : ¬ 12593 ≤ p := by omega
    go_enter Try.func19, Try.ntmps19
    go_wp2
    refine bodyPost_ret (v := .tuple #[.agg #[.int .i64 0, .int .i64 0, .int .i64 0], .bool false]) (by simp [results, Try.results19, go_sem]) rfl ?_
    exact ⟨rfl, (Ext.refl w).alloc _⟩
def aloneS : ByteArray := ⟨#[65, 66, 100, 67, 102, 103, 68, 69, 70, 106, 107, 108, 109, 110, 111, 112, 71, 72, 73, 115, 74, 75, 76, 77, 78, 79, 80, 81, 82, 83]⟩
theorem alone_all : ∀ n : Fin 30, wrap64 (((aloneS[n.val]'(Nat.lt_of_lt_of_eq n.isLt (by decide))).toNat : Nat) : Int) = ((aloneB.getD n.val 0).toNat : Int) := by decide +kernel
theorem alone_at (p : Int) (h0 : 12593 ≤ p) (h1 : p < 12623) (h : (p - 12593).toNat < aloneS.size) : wrap64 (((aloneS[(p - 12593).toNat]'h).toNat : Nat) : Int) = letP p := alone_all ⟨(p - 12593).toNat, by omega⟩
theorem set_three {w : World} {g : Nat} {x y z : Value} {T : TypeId} (h : w.heap[g]? = some (.cells #[x, y, z] T (0, 0))) (a b c : Value) : (((w.setCell ⟨g, 0, none⟩ a).setCell ⟨g, 1, none⟩ b).setCell ⟨g, 2, none⟩ c).heap[g]? = some (.cells #[a, b, c] T (0, 0)) := by
  have h1 := Go.heap_setCell_same w g 0 _ _ a h
  have h2 := Go.heap_setCell_same _ g 1 _ _ b h1
  exact Go.heap_setCell_same _ g 2 _ _ c h2
theorem parts_con (p : Int) (w : World) (h0 : 12593 ≤ p) (h1 : p < 12623) : Calls Try.prog 19 #[.int .i32 p] w fun e w' => e = .returned (.tuple #[.agg #[.int .i64 (if 97 ≤ letP p then -1 else letP p - 65), .int .i64 (-1), .int .i64 (if 97 ≤ letP p then letP p - 97 else 0)], .bool true]) ∧ Ext w w' := by
  have g1 : ¬ 44032 ≤ p := by omega
  have g3 : ¬ 12623 ≤ p := by omega
  have hl := let_all ⟨(p - 12593).toNat, by omega⟩
  have e : 12593 + (((p - 12593).toNat : Nat) : Int) = p := by omega
  simp only [e] at hl
  obtain ⟨l1, l2, l3⟩ := hl
  have HL := Lib.hid (alone_at p h0 h1)
  have HA : Hid (∀ (h : (p - 12593).toNat < aloneS.size) w, Calls Try.prog 24 #[.int .i64 (wrap64 (((aloneS[(p - 12593).toNat]'h).toNat : Nat) : Int))] w fun e w' => e = .returned (.agg #[.int .i64 (if 97 ≤ letP p then -1 else letP p - 65), .int .i64 (-1), .int .i64 (if 97 ≤ letP p then letP p - 97 else 0)]) ∧ Ext w w') := fun h w => by
    rw [HL.out h]
    by_cases hh : 97 ≤ letP p
    · rw [if_pos hh, if_pos hh]
      exact alone_of_hi _ w hh (by have := l1 hh; omega)
    · rw [if_neg hh, if_neg hh]
      exact alone_of_lo _ w (by omega) (by omega)
  generalize (if 97 ≤ letP p then -1 else letP p - 65) = i at HA ⊢
  generalize (if 97 ≤ letP p then letP p - 97 else 0) = f at HA ⊢
  clear l1 l2 l3 e HL
  go_enter Try.func19, Try.ntmps19
  go_wp2_with (go_at_call 24; refine (HA.out _ _).mono ?_; rintro e w1 ⟨rfl, hb1⟩; have hblk := (hb1.block w.heap.size (by simp)).trans (heap_alloc_new w _); obtain ⟨z0, z1, z2⟩ : w1.frozen? ⟨w.heap.size, 0, none⟩ = false ∧ w1.frozen? ⟨w.heap.size, 1, none⟩ = false ∧ w1.frozen? ⟨w.heap.size, 2, none⟩ = false := (by simp [World.frozen?, hblk]); obtain ⟨c0, c1, c2⟩ : w1.cell? ⟨w.heap.size, 0, none⟩ = some (.int .i64 0) ∧ w1.cell? ⟨w.heap.size, 1, none⟩ = some (.int .i64 0) ∧ w1.cell? ⟨w.heap.size, 2, none⟩ = some (.int .i64 0) := (by simp only [World.cell?, hblk]; exact ⟨rfl, rfl, rfl⟩); have HBK := Lib.hid hblk; clear hblk)
  obtain ⟨wf, hwf⟩ : ∃ wf, wf = (((w1.setCell ⟨w.heap.size, 0, none⟩ (.int .i64 i)).setCell ⟨w.heap.size, 1, none⟩ (.int .i64 (-1))).setCell ⟨w.heap.size, 2, none⟩ (.int .i64 f)) := ⟨_, rfl⟩
  have hx : Ext w wf := by
    rw [hwf]
    exact ((((Ext.refl w).alloc _).trans hb1).setCell (Nat.le_refl _) _ |>.setCell (Nat.le_refl _) _).setCell (Nat.le_refl _) _
  have h3 := set_three HBK.out (.int .i64 i) (.int .i64 (-1)) (.int .i64 f)
  rw [← hwf] at h3 ⊢
  obtain ⟨k0, k1, k2⟩ : wf.cell? ⟨w.heap.size, 0, none⟩ = some (.int .i64 i) ∧ wf.cell? ⟨w.heap.size, 1, none⟩ = some (.int .i64 (-1)) ∧ wf.cell? ⟨w.heap.size, 2, none⟩ = some (.int .i64 f) := by
    simp only [World.cell?, h3]
    exact ⟨rfl, rfl, rfl⟩
  clear hwf h3
  refine bodyPost_ret (v := .tuple #[.agg #[.int .i64 i, .int .i64 (-1), .int .i64 f], .bool true]) (by simp [results, Try.results19, go_sem, k0, k1, k2]) rfl ?_
  exact ⟨rfl, hx⟩
theorem parts_in (p : Int) (w : World) (h : inB p = true) : Calls Try.prog 19 #[.int .i32 p] w fun e w' => e = .returned (.tuple #[.agg #[.int .i64 (ptsI p), .int .i64 (ptsM p), .int .i64 (ptsF p)], .bool true]) ∧ Ext w w' := by
  have hp := (inB_iff p).1 h
  unfold ptsI ptsM ptsF
  by_cases h1 : 44032 ≤ p
  · simp only [if_pos h1]
    exact parts_syl p w h1 (by omega)
  · simp only [if_neg h1]
    by_cases h2 : 12623 ≤ p
    · simp only [if_pos h2]
      exact parts_vow p w h2 (by omega)
    · simp only [if_neg h2]
      exact parts_con p w (by omega) (by omega)
theorem bytes_yes (p : Int) (w : World) (h : inB p = true) : Calls Try.prog 10 #[.int .i32 p] w fun e w' => e = .returned (.tuple #[.string (twoB (backP p).toNat), .bool true]) ∧ Ext w w' := by
  have HP := Lib.hid (fun w => parts_in p w h)
  obtain ⟨h1, h2, h3, h4, h5, h6⟩ := pts_bd p h
  obtain ⟨c1, c2, c3, c4, c5, c6⟩ := codeP_bd _ _ _ h1 h2 h3 h4 h5 h6
  have HC := Lib.hid (fun w => code_any _ _ _ w h1 h2 h3 h4 h5 h6)
  have HB := Lib.hid (fun w => big_two (codeP (ptsI p) (ptsM p) (ptsF p)).toNat w (by omega))
  unfold backP
  have e : (((codeP (ptsI p) (ptsM p) (ptsF p)).toNat : Nat) : Int) = codeP (ptsI p) (ptsM p) (ptsF p) := by omega
  rw [e] at HB
  generalize twoB (codeP (ptsI p) (ptsM p) (ptsF p)).toNat = s at *
  generalize codeP (ptsI p) (ptsM p) (ptsF p) = c at *
  generalize ptsI p = i at *
  generalize ptsM p = m at *
  generalize ptsF p = f at *
  clear h c1 c2 c3 c4 e
  go_enter Try.func10, Try.ntmps10
  go_wp2_with (first
    | (go_at_call 19; refine (HP.out _).mono ?_; rintro e w1 ⟨rfl, hb1⟩)
    | (go_at_call 21; refine (HC.out _).mono ?_; rintro e w2 ⟨rfl, hb2⟩)
    | (go_at_call 20; refine (HB.out _).mono ?_; rintro e w3 ⟨rfl, hb3⟩))
  go_ret2
  exact ⟨rfl, ((hb1.alloc _).trans hb2).trans hb3⟩
theorem bytes_no (p : Int) (w : World) (h : inB p = false) (hlo : -2147483648 ≤ p) (hhi : p ≤ 2147483647) : Calls Try.prog 10 #[.int .i32 p] w fun e w' => e = .returned (.tuple #[.string ⟨#[]⟩, .bool false]) ∧ Ext w w' := by
  have HP := Lib.hid (fun w => parts_none p w h hlo hhi)
  clear h
  go_enter Try.func10, Try.ntmps10
  go_wp2_with (go_at_call 19; refine (HP.out _).mono ?_; rintro e w1 ⟨rfl, hb1⟩)
  go_ret2
  exact ⟨rfl, hb1.alloc _⟩
end Go.Proofs.Ytbjcfepjcoefcaa
