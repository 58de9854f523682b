/-
  Contracts of package johab (1): five bits as parts, parts as five bits, a syllable, a consonant.
-/
import Derived.Test.YtbjcfepjcoefcaaJc0
import Derived.Test.YtbjcfepjcoefcaaShelf
import Derived.IntWalk
import Derived.StillTailTactics
import Derived.Deep.RegionWith
namespace Go.Proofs.Ytbjcfepjcoefcaa
open Go Go.ChangeShapes Go.WideShapes Go.ChangeAt Go.RowKit
set_option linter.unusedSimpArgs false
set_option linter.unusedVariables false

theorem ini_of (c : Nat) (w : World) (h : c < 32) : Calls Try.prog 29 #[.int .i64 c] w fun e w' => e = .returned (.tuple #[.int .i64 ((c : Int) - 2), .bool (iniB c)]) ∧ w = w' := by
  by_cases h1 : 1 ≤ c
  · by_cases h2 : c ≤ 20
    · have e : iniB c = true := by simp [iniB, h1, h2]
      rw [e]
      have g1 : (1 : Int) ≤ c := by omega
      have g2 : (c : Int) ≤ 20 := by omega
      go_enter Try.func29, Try.ntmps29
      go_wp2
      go_ret2
      exact ⟨rfl, rfl⟩
    · have e : iniB c = false := by simp [iniB, h1, h2]
      rw [e]
      have g1 : (1 : Int) ≤ c := by omega
      have g2 : ¬ (c : Int) ≤ 20 := by omega
      have g3 : (c : Int) < 32 := by omega
      go_enter Try.func29, Try.ntmps29
      go_wp2
      go_ret2
      exact ⟨rfl, rfl⟩
  · have e : iniB c = false := by simp [iniB, h1]
    rw [e]
    have g1 : ¬ (1 : Int) ≤ c := by omega
    go_enter Try.func29, Try.ntmps29
    go_wp2
    go_ret2
    exact ⟨rfl, rfl⟩
theorem med_of (c : Nat) (w : World) (h : c < 32) : Calls Try.prog 30 #[.int .i64 c] w fun e w' => e = .returned (.tuple #[.int .i64 (medV c), .bool (medB c)]) ∧ w = w' := by
  have g0 : (0 : Int) ≤ c := by omega
  have g3 : (c : Int) < 32 := by omega
  unfold medV
  by_cases h1 : 2 ≤ c % 8
  · by_cases h2 : c ≤ 29
    · have e : medB c = true := by simp [medB, h1, h2]
      rw [e]
      have g1 : (2 : Int) ≤ (c : Int) % 8 := by omega
      have g2 : (c : Int) ≤ 29 := by omega
      clear h1 h2 e
      go_enter Try.func30, Try.ntmps30
      go_wp2
      go_ret2
      exact ⟨rfl, rfl⟩
    · have e : medB c = false := by simp [medB, h1, h2]
      rw [e]
      have g1 : (2 : Int) ≤ (c : Int) % 8 := by omega
      have g2 : ¬ (c : Int) ≤ 29 := by omega
      clear h1 h2 e
      go_enter Try.func30, Try.ntmps30
      go_wp2
      go_ret2
      exact ⟨rfl, rfl⟩
  · have e : medB c = false := by simp [medB, h1]
    rw [e]
    have g1 : ¬ (2 : Int) ≤ (c : Int) % 8 := by omega
    clear h1 e
    go_enter Try.func30, Try.ntmps30
    go_wp2
    go_ret2
    exact ⟨rfl, rfl⟩
theorem fin_of (c : Nat) (w : World) (h : c < 32) : Calls Try.prog 31 #[.int .i64 c] w fun e w' => e = .returned (.tuple #[.int .i64 (finV c), .bool (finB c)]) ∧ w = w' := by
  have g3 : (c : Int) < 32 := by omega
  by_cases h1 : 1 ≤ c ∧ c ≤ 17
  · have e : finB c = true := by simp [finB]; omega
    have e2 : finV c = (c : Int) - 1 := if_pos h1
    rw [e, e2]
    have g1 : (1 : Int) ≤ c := by omega
    have g2 : (c : Int) ≤ 17 := by omega
    clear h1 e e2
    go_enter Try.func31, Try.ntmps31
    go_wp2
    go_ret2
    exact ⟨rfl, rfl⟩
  · by_cases h2 : 19 ≤ c ∧ c ≤ 29
    · have e : finB c = true := by simp [finB]; omega
      have e2 : finV c = (c : Int) - 2 := by unfold finV; rw [if_neg h1, if_pos h2]
      rw [e, e2]
      have g1 : (1 : Int) ≤ c := by omega
      have g2 : ¬ (c : Int) ≤ 17 := by omega
      have g4 : (19 : Int) ≤ c := by omega
      have g5 : (c : Int) ≤ 29 := by omega
      clear h1 h2 e e2
      go_enter Try.func31, Try.ntmps31
      go_wp2
      go_ret2
      exact ⟨rfl, rfl⟩
    · have e : finB c = false := by simp [finB]; omega
      have e2 : finV c = 0 := by unfold finV; rw [if_neg h1, if_neg h2]
      rw [e, e2]
      have hc : c = 0 ∨ c = 18 ∨ 29 < c := by omega
      clear h1 h2 e e2
      rcases hc with hc | hc | hc
      · subst hc
        go_enter Try.func31, Try.ntmps31
        go_wp2
        go_ret2
        exact ⟨rfl, rfl⟩
      · subst hc
        go_enter Try.func31, Try.ntmps31
        go_wp2
        go_ret2
        exact ⟨rfl, rfl⟩
      · have g1 : (1 : Int) ≤ c := by omega
        have g2 : ¬ (c : Int) ≤ 17 := by omega
        have g4 : (19 : Int) ≤ c := by omega
        have g5 : ¬ (c : Int) ≤ 29 := by omega
        go_enter Try.func31, Try.ntmps31
        go_wp2
        go_ret2
        exact ⟨rfl, rfl⟩
theorem ini_code (i : Int) (w : World) (h0 : -1 ≤ i) (h1 : i ≤ 18) : Calls Try.prog 26 #[.int .i64 i] w fun e w' => e = .returned (.int .i64 (i + 2)) ∧ w = w' := by
  go_enter Try.func26, Try.ntmps26
  go_wp2
  go_ret
  exact ⟨rfl, rfl⟩
theorem med_code (m : Int) (w : World) (h0 : -1 ≤ m) (h1 : m ≤ 20) : Calls Try.prog 27 #[.int .i64 m] w fun e w' => e = .returned (.int .i64 (medC' m)) ∧ w = w' := by
  unfold medC'
  go_enter Try.func27, Try.ntmps27
  go_wp2
  go_ret
  exact ⟨rfl, rfl⟩
theorem fin_code (f : Int) (w : World) (h0 : 0 ≤ f) (h1 : f ≤ 27) : Calls Try.prog 28 #[.int .i64 f] w fun e w' => e = .returned (.int .i64 (finC' f)) ∧ w = w' := by
  unfold finC'
  by_cases h2 : f ≤ 16
  · rw [if_pos h2]
    go_enter Try.func28, Try.ntmps28
    go_wp2
    go_ret
    exact ⟨rfl, rfl⟩
  · rw [if_neg h2]
    go_enter Try.func28, Try.ntmps28
    go_wp2
    go_ret
    exact ⟨rfl, rfl⟩
theorem code_any (i m f : Int) (w : World) (h1 : -1 ≤ i) (h2 : i ≤ 18) (h3 : -1 ≤ m) (h4 : m ≤ 20) (h5 : 0 ≤ f) (h6 : f ≤ 27) : Calls Try.prog 21 #[.agg #[.int .i64 i, .int .i64 m, .int .i64 f]] w fun e w' => e = .returned (.int .i64 (codeP i m f)) ∧ Ext w w' := by
  have hI := Lib.hid (fun w => ini_code i w h1 h2)
  have hM := Lib.hid (fun w => med_code m w h3 h4)
  have hF := Lib.hid (fun w => fin_code f w h5 h6)
  obtain ⟨b1, b2, b3, b4, b5, b6⟩ := codeP_bd i m f h1 h2 h3 h4 h5 h6
  have hP : Hid (codeP i m f = 32768 + (i + 2) * 1024 + medC' m * 32 + finC' f) := rfl
  generalize codeP i m f = v at *
  generalize medC' m = mc at *
  generalize finC' f = fc at *
  have s1 : IntKind.i64.wrap ((i + 2) * 1024) = (i + 2) * 1024 := IntWalk.i64_in _ (by omega)
  have s2 : IntKind.i64.wrap (mc * 32) = mc * 32 := IntWalk.i64_in _ (by omega)
  have o1 : bits .or .i64 32768 ((i + 2) * 1024) = 32768 + (i + 2) * 1024 := i64_or15 _ (by omega) (by omega)
  have o2 : bits .or .i64 (32768 + (i + 2) * 1024) (mc * 32) = 32768 + (i + 2) * 1024 + mc * 32 := i64_or10 _ _ (by omega) (by omega) (by omega) (by omega) (by omega)
  have o3 : bits .or .i64 (32768 + (i + 2) * 1024 + mc * 32) fc = 32768 + (i + 2) * 1024 + mc * 32 + fc := i64_or5 _ _ (by omega) (by omega) (by omega) (by omega) (by omega)
  obtain ⟨wa, hwa⟩ : ∃ wa, wa = w.alloc (.cells #[.int .i64 i, .int .i64 m, .int .i64 f] 42) := ⟨_, rfl⟩
  obtain ⟨k0, k1, k2⟩ : wa.cell? ⟨w.heap.size, 0, none⟩ = some (.int .i64 i) ∧ wa.cell? ⟨w.heap.size, 1, none⟩ = some (.int .i64 m) ∧ wa.cell? ⟨w.heap.size, 2, none⟩ = some (.int .i64 f) := by
    have h := heap_alloc_new w (.cells #[.int .i64 i, .int .i64 m, .int .i64 f] 42)
    rw [hwa]
    simp only [World.cell?, h]
    exact ⟨rfl, rfl, rfl⟩
  have hx : Ext w wa := by rw [hwa]; exact (Ext.refl w).alloc _
  have HW := Lib.hid hwa
  clear hwa
  go_enter Try.func21, Try.ntmps21
  go_wp2
  rw [← HW.out]
  go_quiet (first
    | (go_at_call 26; refine (hI.out _).mono ?_; rintro e w' ⟨rfl, rfl⟩; exact ⟨rfl, _, rfl⟩)
    | (go_at_call 27; refine (hM.out _).mono ?_; rintro e w' ⟨rfl, rfl⟩; exact ⟨rfl, _, rfl⟩)
    | (go_at_call 28; refine (hF.out _).mono ?_; rintro e w' ⟨rfl, rfl⟩; exact ⟨rfl, _, rfl⟩))
  go_wp2
  go_ret
  exact ⟨by rw [hP.out]; rfl, hx.drewN _⟩
theorem syl_yes (i m f : Int) (w : World) (h1 : 0 ≤ i) (h2 : i ≤ 18) (h3 : 0 ≤ m) (h4 : m ≤ 20) (h5 : 0 ≤ f) (h6 : f ≤ 27) : Calls Try.prog 12 #[.int .i64 i, .int .i64 m, .int .i64 f] w fun e w' => e = .returned (.tuple #[.int .i32 (44032 + (i * 21 + m) * 28 + f), .bool true]) ∧ w = w' := by
  have a1 : ¬ i < 0 := by omega
  have a2 : ¬ 19 ≤ i := by omega
  have a3 : ¬ m < 0 := by omega
  have a4 : ¬ 21 ≤ m := by omega
  have a5 : ¬ f < 0 := by omega
  have a6 : ¬ 28 ≤ f := by omega
  go_enter Try.func12, Try.ntmps12
  go_wp2
  go_ret2
  exact ⟨rfl, rfl⟩
theorem syl_no (i m f : Int) (w : World) (h : i < 0 ∨ 18 < i ∨ m < 0 ∨ 20 < m ∨ f < 0 ∨ 27 < f) : Calls Try.prog 12 #[.int .i64 i, .int .i64 m, .int .i64 f] w fun e w' => e = .returned (.tuple #[.int .i32 0, .bool false]) ∧ w = w' := by
  by_cases b1 : i < 0
  · go_enter Try.func12, Try.ntmps12
    go_wp2
    go_ret2
    exact ⟨rfl, rfl⟩
  by_cases b2 : 19 ≤ i
  · go_enter Try.func12, Try.ntmps12
    go_wp2
    go_ret2
    exact ⟨rfl, rfl⟩
  by_cases b3 : m < 0
  · go_enter Try.func12, Try.ntmps12
    go_wp2
    go_ret2
    exact ⟨rfl, rfl⟩
  by_cases b4 : 21 ≤ m
  · go_enter Try.func12, Try.ntmps12
    go_wp2
    go_ret2
    exact ⟨rfl, rfl⟩
  by_cases b5 : f < 0
  · go_enter Try.func12, Try.ntmps12
    go_wp2
    go_ret2
    exact ⟨rfl, rfl⟩
  have b6 : 28 ≤ f := by omega
  clear h
  go_enter Try.func12, Try.ntmps12
  go_wp2
  go_ret2
  exact ⟨rfl, rfl⟩
theorem cons_yes (x n : Int) (w : World) (hx0 : 0 ≤ x) (hx1 : x < 256) (hn : Lib.indexByte aloneB x.toNat.toUInt8 = n) (h0 : 0 ≤ n) (h1 : n < 30) : Calls Try.prog 32 #[.int .i64 x] w fun e w' => e = .returned (.tuple #[.int .i32 (12593 + n), .bool true]) ∧ w = w' := by
  have HB : Hid (∀ w, Calls Try.prog 33 #[.string ⟨#[65, 66, 100, 67, 102, 103, 68, 69, 70, 106, 107, 108, 109, 110, 111, 112, 71, 72, 73, 115, 74, 75, 76, 77, 78, 79, 80, 81, 82, 83]⟩, .int .u8 x] w fun e w' => e = .returned (.int .i64 n) ∧ w = w') := fun w => by
    refine (Try.strings_IndexByte _ x w).mono ?_
    rintro e w' ⟨rfl, rfl⟩
    exact ⟨by rw [← hn]; rfl, rfl⟩
  have hb : ¬ n < 0 := by omega
  clear hn
  go_enter Try.func32, Try.ntmps32
  go_wp2_with (go_at_call 33; refine (HB.out _).mono ?_; rintro e w' ⟨rfl, rfl⟩)
  go_ret2
  exact ⟨rfl, rfl⟩
theorem cons_no (x n : Int) (w : World) (hx0 : 0 ≤ x) (hx1 : x < 256) (hn : Lib.indexByte aloneB x.toNat.toUInt8 = n) (h0 : n < 0) : Calls Try.prog 32 #[.int .i64 x] w fun e w' => e = .returned (.tuple #[.int .i32 0, .bool false]) ∧ w = w' := by
  have HB : Hid (∀ w, Calls Try.prog 33 #[.string ⟨#[65, 66, 100, 67, 102, 103, 68, 69, 70, 106, 107, 108, 109, 110, 111, 112, 71, 72, 73, 115, 74, 75, 76, 77, 78, 79, 80, 81, 82, 83]⟩, .int .u8 x] w fun e w' => e = .returned (.int .i64 n) ∧ w = w') := fun w => by
    refine (Try.strings_IndexByte _ x w).mono ?_
    rintro e w' ⟨rfl, rfl⟩
    exact ⟨by rw [← hn]; rfl, rfl⟩
  clear hn
  go_enter Try.func32, Try.ntmps32
  go_wp2_with (go_at_call 33; refine (HB.out _).mono ?_; rintro e w' ⟨rfl, rfl⟩)
  go_ret2
  exact ⟨rfl, rfl⟩
end Go.Proofs.Ytbjcfepjcoefcaa
