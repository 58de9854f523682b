/-
  What the proof of this claim leans on (S35).
-/
import Derived.Test.YtndopjmdpmkgeaaGreatDoorS1
import Derived.Test.YtndopjmdpmkgeaaGreatDoorS2
import Derived.Test.YtndopjmdpmkgeaaGreatDoorS34
import Derived.Deep.RegionWith
import Derived.IntWalk
import Derived.StillTailTactics
namespace Go.Proofs.YtndopjmdpmkgeaaGreatDoor
open Go Go.ChangeShapes Go.WideShapes Go.ChangeAt Go.RowKit
set_option linter.unusedSimpArgs false
set_option linter.unusedVariables false

theorem ini_of (c : Nat) (w : World) (h : c < 32) : Calls Tryz.prog 200 #[.int .i64 c] w fun e w' => e = .returned (.tuple #[.int .i64 ((c : Int) - 2), .bool (iniB c)]) ∧ w = w' := by
  by_cases h1 : 1 ≤ c
  · by_cases h2 : c ≤ 20
    · have e : iniB c = true := by simp [iniB, h1, h2]
      rw [e]
      have g1 : (1 : Int) ≤ c := by omega
      have g2 : (c : Int) ≤ 20 := by omega
      go_enter Tryz.func200, Tryz.ntmps200
      go_wp2
      go_ret2
      exact ⟨rfl, rfl⟩
    · have e : iniB c = false := by simp [iniB, h1, h2]
      rw [e]
      have g1 : (1 : Int) ≤ c := by omega
      have g2 : ¬ (c : Int) ≤ 20 := by omega
      have g3 : (c : Int) < 32 := by omega
      go_enter Tryz.func200, Tryz.ntmps200
      go_wp2
      go_ret2
      exact ⟨rfl, rfl⟩
  · have e : iniB c = false := by simp [iniB, h1]
    rw [e]
    have g1 : ¬ (1 : Int) ≤ c := by omega
    go_enter Tryz.func200, Tryz.ntmps200
    go_wp2
    go_ret2
    exact ⟨rfl, rfl⟩
theorem med_of (c : Nat) (w : World) (h : c < 32) : Calls Tryz.prog 201 #[.int .i64 c] w fun e w' => e = .returned (.tuple #[.int .i64 (medV c), .bool (medB c)]) ∧ w = w' := by
  have g0 : (0 : Int) ≤ c := by omega
  have g3 : (c : Int) < 32 := by omega
  unfold medV
  by_cases h1 : 2 ≤ c % 8
  · by_cases h2 : c ≤ 29
    · have e : medB c = true := by simp [medB, h1, h2]
      rw [e]
      have g1 : (2 : Int) ≤ (c : Int) % 8 := by omega
      have g2 : (c : Int) ≤ 29 := by omega
      clear h1 h2 e
      go_enter Tryz.func201, Tryz.ntmps201
      go_wp2
      go_ret2
      exact ⟨rfl, rfl⟩
    · have e : medB c = false := by simp [medB, h1, h2]
      rw [e]
      have g1 : (2 : Int) ≤ (c : Int) % 8 := by omega
      have g2 : ¬ (c : Int) ≤ 29 := by omega
      clear h1 h2 e
      go_enter Tryz.func201, Tryz.ntmps201
      go_wp2
      go_ret2
      exact ⟨rfl, rfl⟩
  · have e : medB c = false := by simp [medB, h1]
    rw [e]
    have g1 : ¬ (2 : Int) ≤ (c : Int) % 8 := by omega
    clear h1 e
    go_enter Tryz.func201, Tryz.ntmps201
    go_wp2
    go_ret2
    exact ⟨rfl, rfl⟩
theorem fin_of (c : Nat) (w : World) (h : c < 32) : Calls Tryz.prog 202 #[.int .i64 c] w fun e w' => e = .returned (.tuple #[.int .i64 (finV c), .bool (finB c)]) ∧ w = w' := by
  have g3 : (c : Int) < 32 := by omega
  by_cases h1 : 1 ≤ c ∧ c ≤ 17
  · have e : finB c = true := by simp [finB]; omega
    have e2 : finV c = (c : Int) - 1 := if_pos h1
    rw [e, e2]
    have g1 : (1 : Int) ≤ c := by omega
    have g2 : (c : Int) ≤ 17 := by omega
    clear h1 e e2
    go_enter Tryz.func202, Tryz.ntmps202
    go_wp2
    go_ret2
    exact ⟨rfl, rfl⟩
  · by_cases h2 : 19 ≤ c ∧ c ≤ 29
    · have e : finB c = true := by simp [finB]; omega
      have e2 : finV c = (c : Int) - 2 := by unfold finV; rw [if_neg h1, if_pos h2]
      rw [e, e2]
      have g1 : (1 : Int) ≤ c := by omega
      have g2 : ¬ (c : Int) ≤ 17 := by omega
      have g4 : (19 : Int) ≤ c := by omega
      have g5 : (c : Int) ≤ 29 := by omega
      clear h1 h2 e e2
      go_enter Tryz.func202, Tryz.ntmps202
      go_wp2
      go_ret2
      exact ⟨rfl, rfl⟩
    · have e : finB c = false := by simp [finB]; omega
      have e2 : finV c = 0 := by unfold finV; rw [if_neg h1, if_neg h2]
      rw [e, e2]
      have hc : c = 0 ∨ c = 18 ∨ 29 < c := by omega
      clear h1 h2 e e2
      rcases hc with hc | hc | hc
      · subst hc
        go_enter Tryz.func202, Tryz.ntmps202
        go_wp2
        go_ret2
        exact ⟨rfl, rfl⟩
      · subst hc
        go_enter Tryz.func202, Tryz.ntmps202
        go_wp2
        go_ret2
        exact ⟨rfl, rfl⟩
      · have g1 : (1 : Int) ≤ c := by omega
        have g2 : ¬ (c : Int) ≤ 17 := by omega
        have g4 : (19 : Int) ≤ c := by omega
        have g5 : ¬ (c : Int) ≤ 29 := by omega
        go_enter Tryz.func202, Tryz.ntmps202
        go_wp2
        go_ret2
        exact ⟨rfl, rfl⟩
theorem ini_code (i : Int) (w : World) (h0 : -1 ≤ i) (h1 : i ≤ 18) : Calls Tryz.prog 176 #[.int .i64 i] w fun e w' => e = .returned (.int .i64 (i + 2)) ∧ w = w' := by
  go_enter Tryz.func176, Tryz.ntmps176
  go_wp2
  go_ret
  exact ⟨rfl, rfl⟩
theorem med_code (m : Int) (w : World) (h0 : -1 ≤ m) (h1 : m ≤ 20) : Calls Tryz.prog 177 #[.int .i64 m] w fun e w' => e = .returned (.int .i64 (medC' m)) ∧ w = w' := by
  unfold medC'
  go_enter Tryz.func177, Tryz.ntmps177
  go_wp2
  go_ret
  exact ⟨rfl, rfl⟩
theorem fin_code (f : Int) (w : World) (h0 : 0 ≤ f) (h1 : f ≤ 27) : Calls Tryz.prog 178 #[.int .i64 f] w fun e w' => e = .returned (.int .i64 (finC' f)) ∧ w = w' := by
  unfold finC'
  by_cases h2 : f ≤ 16
  · rw [if_pos h2]
    go_enter Tryz.func178, Tryz.ntmps178
    go_wp2
    go_ret
    exact ⟨rfl, rfl⟩
  · rw [if_neg h2]
    go_enter Tryz.func178, Tryz.ntmps178
    go_wp2
    go_ret
    exact ⟨rfl, rfl⟩
theorem code_any (i m f : Int) (w : World) (h1 : -1 ≤ i) (h2 : i ≤ 18) (h3 : -1 ≤ m) (h4 : m ≤ 20) (h5 : 0 ≤ f) (h6 : f ≤ 27) : Calls Tryz.prog 140 #[.agg #[.int .i64 i, .int .i64 m, .int .i64 f]] w fun e w' => e = .returned (.int .i64 (codeP i m f)) ∧ Ext w w' := by
  have hI := Lib.hid (fun w => ini_code i w h1 h2)
  have hM := Lib.hid (fun w => med_code m w h3 h4)
  have hF := Lib.hid (fun w => fin_code f w h5 h6)
  obtain ⟨b1, b2, b3, b4, b5, b6⟩ := codeP_bd i m f h1 h2 h3 h4 h5 h6
  have hP : Hid (codeP i m f = 32768 + (i + 2) * 1024 + medC' m * 32 + finC' f) := rfl
  generalize codeP i m f = v at *
  generalize medC' m = mc at *
  generalize finC' f = fc at *
  have s1 : IntKind.i64.wrap ((i + 2) * 1024) = (i + 2) * 1024 := IntWalk.i64_in _ (by omega)
  have s2 : IntKind.i64.wrap (mc * 32) = mc * 32 := IntWalk.i64_in _ (by omega)
  have o1 : bits .or .i64 32768 ((i + 2) * 1024) = 32768 + (i + 2) * 1024 := i64_or15 _ (by omega) (by omega)
  have o2 : bits .or .i64 (32768 + (i + 2) * 1024) (mc * 32) = 32768 + (i + 2) * 1024 + mc * 32 := i64_or10 _ _ (by omega) (by omega) (by omega) (by omega) (by omega)
  have o3 : bits .or .i64 (32768 + (i + 2) * 1024 + mc * 32) fc = 32768 + (i + 2) * 1024 + mc * 32 + fc := i64_or5 _ _ (by omega) (by omega) (by omega) (by omega) (by omega)
  obtain ⟨wa, hwa⟩ : ∃ wa, wa = w.alloc (.cells #[.int .i64 i, .int .i64 m, .int .i64 f] 165) := ⟨_, rfl⟩
  obtain ⟨k0, k1, k2⟩ : wa.cell? ⟨w.heap.size, 0, none⟩ = some (.int .i64 i) ∧ wa.cell? ⟨w.heap.size, 1, none⟩ = some (.int .i64 m) ∧ wa.cell? ⟨w.heap.size, 2, none⟩ = some (.int .i64 f) := by
    have h := heap_alloc_new w (.cells #[.int .i64 i, .int .i64 m, .int .i64 f] 165)
    rw [hwa]
    simp only [World.cell?, h]
    exact ⟨rfl, rfl, rfl⟩
  have hx : Ext w wa := by rw [hwa]; exact (Ext.refl w).alloc _
  have HW := Lib.hid hwa
  clear hwa
  go_enter Tryz.func140, Tryz.ntmps140
  go_wp2
  rw [← HW.out]
  go_quiet (first
    | (go_at_call 176; refine (hI.out _).mono ?_; rintro e w' ⟨rfl, rfl⟩; exact ⟨rfl, _, rfl⟩)
    | (go_at_call 177; refine (hM.out _).mono ?_; rintro e w' ⟨rfl, rfl⟩; exact ⟨rfl, _, rfl⟩)
    | (go_at_call 178; refine (hF.out _).mono ?_; rintro e w' ⟨rfl, rfl⟩; exact ⟨rfl, _, rfl⟩))
  go_wp2
  go_ret
  exact ⟨by rw [hP.out]; rfl, hx.drewN _⟩
theorem syl_yes (i m f : Int) (w : World) (h1 : 0 ≤ i) (h2 : i ≤ 18) (h3 : 0 ≤ m) (h4 : m ≤ 20) (h5 : 0 ≤ f) (h6 : f ≤ 27) : Calls Tryz.prog 203 #[.int .i64 i, .int .i64 m, .int .i64 f] w fun e w' => e = .returned (.tuple #[.int .i32 (44032 + (i * 21 + m) * 28 + f), .bool true]) ∧ w = w' := by
  have a1 : ¬ i < 0 := by omega
  have a2 : ¬ 19 ≤ i := by omega
  have a3 : ¬ m < 0 := by omega
  have a4 : ¬ 21 ≤ m := by omega
  have a5 : ¬ f < 0 := by omega
  have a6 : ¬ 28 ≤ f := by omega
  go_enter Tryz.func203, Tryz.ntmps203
  go_wp2
  go_ret2
  exact ⟨rfl, rfl⟩
theorem cons_yes (x n : Int) (w : World) (hx0 : 0 ≤ x) (hx1 : x < 256) (hn : Lib.indexByte aloneB x.toNat.toUInt8 = n) (h0 : 0 ≤ n) (h1 : n < 30) : Calls Tryz.prog 204 #[.int .i64 x] w fun e w' => e = .returned (.tuple #[.int .i32 (12593 + n), .bool true]) ∧ w = w' := by
  have HB : Hid (∀ w, Calls Tryz.prog 208 #[.string ⟨#[65, 66, 100, 67, 102, 103, 68, 69, 70, 106, 107, 108, 109, 110, 111, 112, 71, 72, 73, 115, 74, 75, 76, 77, 78, 79, 80, 81, 82, 83]⟩, .int .u8 x] w fun e w' => e = .returned (.int .i64 n) ∧ w = w') := fun w => by
    refine (Tryz.strings_IndexByte _ x w).mono ?_
    rintro e w' ⟨rfl, rfl⟩
    exact ⟨by rw [← hn]; rfl, rfl⟩
  have hb : ¬ n < 0 := by omega
  clear hn
  go_enter Tryz.func204, Tryz.ntmps204
  go_wp2_with (go_at_call 208; refine (HB.out _).mono ?_; rintro e w' ⟨rfl, rfl⟩)
  go_ret2
  exact ⟨rfl, rfl⟩
theorem cons_no (x n : Int) (w : World) (hx0 : 0 ≤ x) (hx1 : x < 256) (hn : Lib.indexByte aloneB x.toNat.toUInt8 = n) (h0 : n < 0) : Calls Tryz.prog 204 #[.int .i64 x] w fun e w' => e = .returned (.tuple #[.int .i32 0, .bool false]) ∧ w = w' := by
  have HB : Hid (∀ w, Calls Tryz.prog 208 #[.string ⟨#[65, 66, 100, 67, 102, 103, 68, 69, 70, 106, 107, 108, 109, 110, 111, 112, 71, 72, 73, 115, 74, 75, 76, 77, 78, 79, 80, 81, 82, 83]⟩, .int .u8 x] w fun e w' => e = .returned (.int .i64 n) ∧ w = w') := fun w => by
    refine (Tryz.strings_IndexByte _ x w).mono ?_
    rintro e w' ⟨rfl, rfl⟩
    exact ⟨by rw [← hn]; rfl, rfl⟩
  clear hn
  go_enter Tryz.func204, Tryz.ntmps204
  go_wp2_with (go_at_call 208; refine (HB.out _).mono ?_; rintro e w' ⟨rfl, rfl⟩)
  go_ret2
  exact ⟨rfl, rfl⟩
end Go.Proofs.YtndopjmdpmkgeaaGreatDoor

namespace Go.Proofs.YtndopjmdpmkgeaaGreatDoor
open Go Go.ChangeShapes Go.WideShapes Go.ChangeAt Go.RowKit
set_option linter.unusedSimpArgs false
set_option linter.unusedVariables false

def nz (x : Int) : Bool := !(x == 0)
theorem nz_yes {x : Int} (h : x ≠ 0) : nz x = true := by simp [nz, h]
theorem nz_no : nz 0 = false := rfl
theorem cons_ini (i : Int) (w : World) (h1 : 0 ≤ i) (h2 : i ≤ 18) : Calls Tryz.prog 204 #[.int .i64 (65 + i)] w fun e w' => e = .returned (.tuple #[.int .i32 (aloneZ i), .bool true]) ∧ w = w' := by
  obtain ⟨n, rfl⟩ := Int.eq_ofNat_of_zero_le h1
  obtain ⟨e1, e2, e3⟩ := alone_ini ⟨n, by omega⟩
  simp only at e1 e2 e3
  rw [e1]
  have e : (65 + (n : Int)).toNat = 65 + n := by omega
  exact cons_yes _ _ w (by omega) (by omega) (by rw [e]) e2 e3
theorem cons_fin (f : Int) (w : World) (h1 : 0 < f) (h2 : f ≤ 27) : Calls Tryz.prog 204 #[.int .i64 (97 + f)] w fun e w' => e = .returned (.tuple #[.int .i32 (aloneZ (100 + f)), .bool (nz (aloneZ (100 + f)))]) ∧ w = w' := by
  obtain ⟨n, rfl⟩ := Int.eq_ofNat_of_zero_le (Int.le_of_lt h1)
  obtain ⟨e1, e3⟩ := alone_fin ⟨n, by omega⟩ (by simp only; omega)
  simp only at e1 e3
  have e : (97 + (n : Int)).toNat = 97 + n := by omega
  rw [e1]
  by_cases h : Lib.indexByte aloneB (97 + n).toUInt8 < 0
  · rw [if_pos h]
    exact cons_no _ _ w (by omega) (by omega) (by rw [e]) h
  · rw [if_neg h, nz_yes (by omega)]
    exact cons_yes _ _ w (by omega) (by omega) (by rw [e]) (by omega) e3
theorem alone_ini_nz (i : Int) (h1 : 0 ≤ i) (h2 : i ≤ 18) : nz (aloneZ i) = true := by
  obtain ⟨n, rfl⟩ := Int.eq_ofNat_of_zero_le h1
  obtain ⟨e1, e2, e3⟩ := alone_ini ⟨n, by omega⟩
  simp only at e1 e2 e3
  exact nz_yes (by omega)
def SignOut (w : World) (s : Int) (e : Ending) (w' : World) : Prop := e = .returned (.tuple #[.int .i32 s, .bool (nz s)]) ∧ Ext w w'
theorem sign_anyJ (i m f : Int) (w : World) (h1 : -1 ≤ i) (h2 : i ≤ 18) (h3 : -1 ≤ m) (h4 : m ≤ 20) (h5 : 0 ≤ f) (h6 : f ≤ 27) : Calls Tryz.prog 173 #[.agg #[.int .i64 i, .int .i64 m, .int .i64 f]] w (SignOut w (partsJ i m f)) := by
  unfold SignOut
  have hno : ¬ (i < -1 ∨ 18 < i ∨ m = -2 ∨ f = -2) := by omega
  by_cases a : 0 ≤ i
  · have a1 : (i == -1) = false := beq_false_of_ne (by omega)
    have a2 : (i != -1) = true := by simp [bne, a1]
    by_cases b : 0 ≤ m
    · have b1 : (m == -1) = false := beq_false_of_ne (by omega)
      have b2 : (m != -1) = true := by simp [bne, b1]
      have hp : partsJ i m f = 44032 + (i * 21 + m) * 28 + f := by unfold partsJ; rw [if_neg hno, if_pos ⟨a, b⟩]
      rw [hp, nz_yes (by omega)]
      clear hp hno
      go_enter Tryz.func173, Tryz.ntmps173
      go_wp2_with (go_at_call 203; refine (syl_yes _ _ _ _ (by omega) (by omega) (by omega) (by omega) (by omega) (by omega)).mono ?_; rintro e w1 ⟨rfl, rfl⟩)
      go_ret2
      exact ⟨rfl, (Ext.refl w).alloc _⟩
    · obtain rfl : m = -1 := by omega
      by_cases c : f = 0
      · subst c
        have hp : partsJ i (-1) 0 = aloneZ i := by unfold partsJ; rw [if_neg hno, if_neg (by omega), if_neg (by omega), if_pos ⟨a, by omega, rfl⟩]
        rw [hp, alone_ini_nz i a h2]
        have HC := Lib.hid (fun w => cons_ini i w a h2)
        clear hp hno
        go_enter Tryz.func173, Tryz.ntmps173
        go_wp2_with (go_at_call 204; refine (HC.out _).mono ?_; rintro e w1 ⟨rfl, rfl⟩)
        go_ret2
        exact ⟨rfl, (Ext.refl w).alloc _⟩
      · have c1 : (f == 0) = false := beq_false_of_ne c
        have c2 : (f != 0) = true := by simp [bne, c1]
        have hp : partsJ i (-1) f = 0 := by unfold partsJ; rw [if_neg hno, if_neg (by omega), if_neg (by omega), if_neg (by omega), if_neg (by omega)]
        rw [hp, nz_no]
        clear hp hno
        go_enter Tryz.func173, Tryz.ntmps173
        go_wp2
        go_ret2
        exact ⟨rfl, (Ext.refl w).alloc _⟩
  · obtain rfl : i = -1 := by omega
    by_cases b : 0 ≤ m
    · have b1 : (m == -1) = false := beq_false_of_ne (by omega)
      have b2 : (m != -1) = true := by simp [bne, b1]
      by_cases c : f = 0
      · subst c
        have hp : partsJ (-1) m 0 = 12623 + m := by unfold partsJ; rw [if_neg hno, if_neg (by omega), if_pos ⟨by omega, b, rfl⟩]
        rw [hp, nz_yes (by omega)]
        clear hp hno
        go_enter Tryz.func173, Tryz.ntmps173
        go_wp2
        go_ret2
        exact ⟨rfl, (Ext.refl w).alloc _⟩
      · have c1 : (f == 0) = false := beq_false_of_ne c
        have c2 : (f != 0) = true := by simp [bne, c1]
        have hp : partsJ (-1) m f = 0 := by unfold partsJ; rw [if_neg hno, if_neg (by omega), if_neg (by omega), if_neg (by omega), if_neg (by omega)]
        rw [hp, nz_no]
        clear hp hno
        go_enter Tryz.func173, Tryz.ntmps173
        go_wp2
        go_ret2
        exact ⟨rfl, (Ext.refl w).alloc _⟩
    · obtain rfl : m = -1 := by omega
      by_cases c : f = 0
      · subst c
        have hp : partsJ (-1) (-1) 0 = 0 := by decide
        rw [hp, nz_no]
        clear hp hno
        go_enter Tryz.func173, Tryz.ntmps173
        go_wp2
        go_ret2
        exact ⟨rfl, (Ext.refl w).alloc _⟩
      · have c1 : (f == 0) = false := beq_false_of_ne c
        have c2 : (f != 0) = true := by simp [bne, c1]
        have hp : partsJ (-1) (-1) f = aloneZ (100 + f) := by unfold partsJ; rw [if_neg hno, if_neg (by omega), if_neg (by omega), if_neg (by omega), if_pos ⟨by omega, by omega, by omega⟩]
        rw [hp]
        have HC := Lib.hid (fun w => cons_fin f w (by omega) h6)
        generalize nz (aloneZ (100 + f)) = bb at HC ⊢
        generalize aloneZ (100 + f) = zz at HC ⊢
        clear hp hno
        go_enter Tryz.func173, Tryz.ntmps173
        go_wp2_with (go_at_call 204; refine (HC.out _).mono ?_; rintro e w1 ⟨rfl, rfl⟩)
        go_ret2
        exact ⟨rfl, (Ext.refl w).alloc _⟩
end Go.Proofs.YtndopjmdpmkgeaaGreatDoor

namespace Go.Proofs.YtndopjmdpmkgeaaGreatDoor
open Go Go.ChangeShapes Go.WideShapes Go.ChangeAt Go.RowKit
set_option linter.unusedSimpArgs false
set_option linter.unusedVariables false

set_option maxRecDepth 100000 in
set_option maxHeartbeats 1000000 in
theorem parts_of (c : Nat) (w : World) (h : c < 65536) : Calls Tryz.prog 172 #[.int .i64 c] w fun e w' => e = .returned (.tuple #[.agg #[.int .i64 (iniC c), .int .i64 (medV (c / 32 % 32)), .int .i64 (finV (c % 32))], .bool (okC c)]) ∧ Ext w w' := by
  have HI := Lib.hid (fun w => ini_of (c / 1024 % 32) w (by omega))
  have HM := Lib.hid (fun w => med_of (c / 32 % 32) w (by omega))
  have HF := Lib.hid (fun w => fin_of (c % 32) w (by omega))
  have e1 : ((c / 32 % 32 : Nat) : Int) = (c : Int) / 32 % 32 := by omega
  have e2 : ((c % 32 : Nat) : Int) = (c : Int) % 32 := by omega
  have e3 : ((c / 1024 % 32 : Nat) : Int) = (c : Int) / 1024 % 32 := by omega
  unfold iniC
  rw [e3] at HI ⊢
  rw [e1] at HM
  rw [e2] at HF
  obtain ⟨ok, hok⟩ : ∃ ok, ok = okC c := ⟨_, rfl⟩
  have hok2 := hok
  unfold okC at hok2
  rw [← hok]
  generalize medV (c / 32 % 32) = m at HM ⊢
  generalize finV (c % 32) = f at HF ⊢
  generalize medB (c / 32 % 32) = b2 at HM hok2
  generalize finB (c % 32) = b3 at HF hok2
  generalize iniB (c / 1024 % 32) = b1 at HI hok2
  have hb : (32768 ≤ c) ∨ (c < 32768) := by omega
  obtain ⟨n, hn⟩ : ∃ n : Int, n = c := ⟨_, rfl⟩
  rw [← hn] at HI HM HF ⊢
  have n0 : 0 ≤ n := by omega
  have n1 : n < 65536 := by omega
  have HC : Hid (∀ r : Bool, (n / 32768 == 1) = r → ok = (r && b1 && b2 && b3) ∧ (r = true ∨ r = false)) := fun r hr => by
    rw [hok2]
    rcases hb with hb | hb
    · have : n / 32768 = 1 := by omega
      rw [this] at hr
      subst hr
      rw [decide_eq_true hb]
      exact ⟨rfl, .inl rfl⟩
    · have : n / 32768 = 0 := by omega
      rw [this] at hr
      subst hr
      rw [decide_eq_false (by omega)]
      exact ⟨rfl, .inr rfl⟩
  have a1 : bits .and .i64 (n / 1024) 31 = n / 1024 % 32 := i64_and31 _ (by omega) (by omega)
  have a2 : bits .and .i64 (n / 32) 31 = n / 32 % 32 := i64_and31 _ (by omega) (by omega)
  have a3 : bits .and .i64 n 31 = n % 32 := i64_and31 _ (by omega) (by omega)
  obtain ⟨r, hr⟩ : ∃ r, (n / 32768 == 1) = r := ⟨_, rfl⟩
  obtain ⟨hk, hr2⟩ := HC.out r hr
  clear hok hok2 hb hn e1 e2 e3 h HC
  rcases hr2 with rfl | rfl
  · rcases b1 with _ | _
    · replace hk : ok = false := hk
      subst hk
      go_enter Tryz.func172, Tryz.ntmps172
      go_wp2_with (first
        | (go_at_call 200; refine (HI.out _).mono ?_; rintro e w1 ⟨rfl, rfl⟩)
        | (go_at_call 201; refine (HM.out _).mono ?_; rintro e w1 ⟨rfl, rfl⟩)
        | (go_at_call 202; refine (HF.out _).mono ?_; rintro e w1 ⟨rfl, rfl⟩))
      refine bodyPost_ret (v := .tuple #[.agg #[.int .i64 (n / 1024 % 32 - 2), .int .i64 m, .int .i64 f], .bool false]) (by simp [results, Tryz.results172, go_sem]) rfl ?_
      exact ⟨rfl, (Ext.refl w).alloc _⟩
    · rcases b2 with _ | _
      · replace hk : ok = false := hk
        subst hk
        go_enter Tryz.func172, Tryz.ntmps172
        go_wp2_with (first
          | (go_at_call 200; refine (HI.out _).mono ?_; rintro e w1 ⟨rfl, rfl⟩)
          | (go_at_call 201; refine (HM.out _).mono ?_; rintro e w1 ⟨rfl, rfl⟩)
          | (go_at_call 202; refine (HF.out _).mono ?_; rintro e w1 ⟨rfl, rfl⟩))
        refine bodyPost_ret (v := .tuple #[.agg #[.int .i64 (n / 1024 % 32 - 2), .int .i64 m, .int .i64 f], .bool false]) (by simp [results, Tryz.results172, go_sem]) rfl ?_
        exact ⟨rfl, (Ext.refl w).alloc _⟩
      · replace hk : ok = b3 := hk
        subst hk
        go_enter Tryz.func172, Tryz.ntmps172
        go_wp2_with (first
          | (go_at_call 200; refine (HI.out _).mono ?_; rintro e w1 ⟨rfl, rfl⟩)
          | (go_at_call 201; refine (HM.out _).mono ?_; rintro e w1 ⟨rfl, rfl⟩)
          | (go_at_call 202; refine (HF.out _).mono ?_; rintro e w1 ⟨rfl, rfl⟩))
        refine bodyPost_ret (v := .tuple #[.agg #[.int .i64 (n / 1024 % 32 - 2), .int .i64 m, .int .i64 f], .bool ok]) (by simp [results, Tryz.results172, go_sem]) rfl ?_
        exact ⟨rfl, (Ext.refl w).alloc _⟩
  · replace hk : ok = false := hk
    subst hk
    go_enter Tryz.func172, Tryz.ntmps172
    go_wp2_with (first
      | (go_at_call 200; refine (HI.out _).mono ?_; rintro e w1 ⟨rfl, rfl⟩)
      | (go_at_call 201; refine (HM.out _).mono ?_; rintro e w1 ⟨rfl, rfl⟩)
      | (go_at_call 202; refine (HF.out _).mono ?_; rintro e w1 ⟨rfl, rfl⟩))
    refine bodyPost_ret (v := .tuple #[.agg #[.int .i64 (n / 1024 % 32 - 2), .int .i64 m, .int .i64 f], .bool false]) (by simp [results, Tryz.results172, go_sem]) rfl ?_
    exact ⟨rfl, (Ext.refl w).alloc _⟩
theorem sign_of (c : Nat) (w : World) (h : c < 65536) : Calls Tryz.prog 137 #[.int .i64 c] w (SignOut w (signJ c)) := by
  have HP := Lib.hid (fun w => parts_of c w h)
  obtain ⟨ok, hok⟩ : ∃ ok, okC c = ok := ⟨_, rfl⟩
  rw [hok] at HP
  rcases ok with _ | _
  · rw [okC_no c hok]
    clear hok
    unfold SignOut
    rw [nz_no]
    generalize iniC c = i at HP
    generalize medV (c / 32 % 32) = m at HP
    generalize finV (c % 32) = f at HP
    go_enter Tryz.func137, Tryz.ntmps137
    go_wp2_with (go_at_call 172; refine (HP.out _).mono ?_; rintro e w1 ⟨rfl, hb1⟩)
    go_ret2
    exact ⟨rfl, hb1.alloc _⟩
  · obtain ⟨e1, h1, h2, h3, h4, h5, h6⟩ := okC_yes c hok
    rw [e1]
    clear hok e1
    generalize iniC c = i at *
    generalize medV (c / 32 % 32) = m at *
    generalize finV (c % 32) = f at *
    have HS := Lib.hid (fun w => sign_anyJ i m f w h1 h2 h3 h4 h5 h6)
    generalize partsJ i m f = s at HS ⊢
    unfold SignOut at HS ⊢
    generalize nz s = b at HS ⊢
    go_enter Tryz.func137, Tryz.ntmps137
    go_wp2_with (first
      | (go_at_call 172; refine (HP.out _).mono ?_; rintro e w1 ⟨rfl, hb1⟩)
      | (go_at_call 173; refine (HS.out _).mono ?_; rintro e w2 ⟨rfl, hb2⟩))
    go_ret2
    exact ⟨rfl, (hb1.alloc _).trans hb2⟩
theorem sign_twoJ (x y : Nat) (w : World) (hx : x < 256) (hy : y < 256) : Calls Tryz.prog 107 #[.int .u8 x, .int .u8 y] w (SignOut w (signJ (x * 256 + y))) := by
  have HS := Lib.hid (fun w => sign_of (x * 256 + y) w (by omega))
  have e1 : ((x * 256 + y : Nat) : Int) = (x : Int) * 256 + y := by omega
  rw [e1] at HS
  generalize signJ (x * 256 + y) = s at HS ⊢
  unfold SignOut at HS ⊢
  generalize nz s = b at HS ⊢
  have e2 : bits .or .i64 ((x : Int) * 256) y = (x : Int) * 256 + y := i64_or8 _ _ (by omega) (by omega) (by omega) (by omega)
  have e3 : IntKind.i64.wrap ((x : Int) * 256) = (x : Int) * 256 := IntWalk.i64_in _ (by omega)
  clear e1
  go_enter Tryz.func107, Tryz.ntmps107
  go_wp2_with (go_at_call 137; refine (HS.out _).mono ?_; rintro e w1 ⟨rfl, hb1⟩)
  go_ret2
  exact ⟨rfl, hb1⟩
end Go.Proofs.YtndopjmdpmkgeaaGreatDoor

namespace Go.Proofs.YtndopjmdpmkgeaaGreatDoor
open Go Go.ChangeShapes Go.WideShapes Go.ChangeAt Go.RowKit
set_option linter.unusedSimpArgs false
set_option linter.unusedVariables false

theorem alone_of_hi (x : Int) (w : World) (h0 : 97 ≤ x) (h1 : x < 256) : Calls Tryz.prog 174 #[.int .i64 x] w fun e w' => e = .returned (.agg #[.int .i64 (-1), .int .i64 (-1), .int .i64 (x - 97)]) ∧ Ext w w' := by
  go_enter Tryz.func174, Tryz.ntmps174
  go_wp2
  refine bodyPost_ret (v := .agg #[.int .i64 (-1), .int .i64 (-1), .int .i64 (x - 97)]) (by simp [results, Tryz.results174, go_sem]) rfl ?_
  exact ⟨rfl, (Ext.refl w).alloc _⟩
theorem alone_of_lo (x : Int) (w : World) (h0 : 0 ≤ x) (h1 : x < 97) : Calls Tryz.prog 174 #[.int .i64 x] w fun e w' => e = .returned (.agg #[.int .i64 (x - 65), .int .i64 (-1), .int .i64 0]) ∧ Ext w w' := by
  have h2 : ¬ 97 ≤ x := by omega
  go_enter Tryz.func174, Tryz.ntmps174
  go_wp2
  refine bodyPost_ret (v := .agg #[.int .i64 (x - 65), .int .i64 (-1), .int .i64 0]) (by simp [results, Tryz.results174, go_sem]) rfl ?_
  exact ⟨rfl, (Ext.refl w).alloc _⟩
theorem parts_syl (p : Int) (w : World) (h0 : 44032 ≤ p) (h1 : p < 55204) : Calls Tryz.prog 138 #[.int .i32 p] w fun e w' => e = .returned (.tuple #[.agg #[.int .i64 ((p - 44032) / 28 / 21), .int .i64 ((p - 44032) / 28 % 21), .int .i64 ((p - 44032) % 28)], .bool true]) ∧ Ext w w' := by
  go_enter Tryz.func138, Tryz.ntmps138
  go_wp2
  refine bodyPost_ret (v := .tuple #[.agg #[.int .i64 ((p - 44032) / 28 / 21), .int .i64 ((p - 44032) / 28 % 21), .int .i64 ((p - 44032) % 28)], .bool true]) (by simp [results, Tryz.results138, go_sem]) rfl ?_
  exact ⟨rfl, (Ext.refl w).alloc _⟩
theorem parts_vow (p : Int) (w : World) (h0 : 12623 ≤ p) (h1 : p < 12644) : Calls Tryz.prog 138 #[.int .i32 p] w fun e w' => e = .returned (.tuple #[.agg #[.int .i64 (-1), .int .i64 (p - 12623), .int .i64 0], .bool true]) ∧ Ext w w' := by
  have h2 : ¬ 44032 ≤ p := by omega
  go_enter Tryz.func138, Tryz.ntmps138
  go_wp2
  refine bodyPost_ret (v := .tuple #[.agg #[.int .i64 (-1), .int .i64 (p - 12623), .int .i64 0], .bool true]) (by simp [results, Tryz.results138, go_sem]) rfl ?_
  exact ⟨rfl, (Ext.refl w).alloc _⟩
def aloneS : ByteArray := ⟨#[65, 66, 100, 67, 102, 103, 68, 69, 70, 106, 107, 108, 109, 110, 111, 112, 71, 72, 73, 115, 74, 75, 76, 77, 78, 79, 80, 81, 82, 83]⟩
theorem alone_all : ∀ n : Fin 30, wrap64 (((aloneS[n.val]'(Nat.lt_of_lt_of_eq n.isLt (by decide))).toNat : Nat) : Int) = ((aloneB.getD n.val 0).toNat : Int) := by decide +kernel
theorem alone_at (p : Int) (h0 : 12593 ≤ p) (h1 : p < 12623) (h : (p - 12593).toNat < aloneS.size) : wrap64 (((aloneS[(p - 12593).toNat]'h).toNat : Nat) : Int) = letP p := alone_all ⟨(p - 12593).toNat, by omega⟩
theorem set_threeJ {w : World} {g : Nat} {x y z : Value} {T : TypeId} (h : w.heap[g]? = some (.cells #[x, y, z] T (0, 0))) (a b c : Value) : (((w.setCell ⟨g, 0, none⟩ a).setCell ⟨g, 1, none⟩ b).setCell ⟨g, 2, none⟩ c).heap[g]? = some (.cells #[a, b, c] T (0, 0)) := by
  have h1 := Go.heap_setCell_same w g 0 _ _ a h
  have h2 := Go.heap_setCell_same _ g 1 _ _ b h1
  exact Go.heap_setCell_same _ g 2 _ _ c h2
theorem parts_con (p : Int) (w : World) (h0 : 12593 ≤ p) (h1 : p < 12623) : Calls Tryz.prog 138 #[.int .i32 p] w fun e w' => e = .returned (.tuple #[.agg #[.int .i64 (if 97 ≤ letP p then -1 else letP p - 65), .int .i64 (-1), .int .i64 (if 97 ≤ letP p then letP p - 97 else 0)], .bool true]) ∧ Ext w w' := by
  have g1 : ¬ 44032 ≤ p := by omega
  have g3 : ¬ 12623 ≤ p := by omega
  have hl := let_all ⟨(p - 12593).toNat, by omega⟩
  have e : 12593 + (((p - 12593).toNat : Nat) : Int) = p := by omega
  simp only [e] at hl
  obtain ⟨l1, l2, l3⟩ := hl
  have HL := Lib.hid (alone_at p h0 h1)
  have HA : Hid (∀ (h : (p - 12593).toNat < aloneS.size) w, Calls Tryz.prog 174 #[.int .i64 (wrap64 (((aloneS[(p - 12593).toNat]'h).toNat : Nat) : Int))] w fun e w' => e = .returned (.agg #[.int .i64 (if 97 ≤ letP p then -1 else letP p - 65), .int .i64 (-1), .int .i64 (if 97 ≤ letP p then letP p - 97 else 0)]) ∧ Ext w w') := fun h w => by
    rw [HL.out h]
    by_cases hh : 97 ≤ letP p
    · rw [if_pos hh, if_pos hh]
      exact alone_of_hi _ w hh (by have := l1 hh; omega)
    · rw [if_neg hh, if_neg hh]
      exact alone_of_lo _ w (by omega) (by omega)
  generalize (if 97 ≤ letP p then -1 else letP p - 65) = i at HA ⊢
  generalize (if 97 ≤ letP p then letP p - 97 else 0) = f at HA ⊢
  clear l1 l2 l3 e HL
  go_enter Tryz.func138, Tryz.ntmps138
  go_wp2_with (go_at_call 174; refine (HA.out _ _).mono ?_; rintro e w1 ⟨rfl, hb1⟩; have hblk := (hb1.block w.heap.size (by simp)).trans (heap_alloc_new w _); obtain ⟨z0, z1, z2⟩ : w1.frozen? ⟨w.heap.size, 0, none⟩ = false ∧ w1.frozen? ⟨w.heap.size, 1, none⟩ = false ∧ w1.frozen? ⟨w.heap.size, 2, none⟩ = false := (by simp [World.frozen?, hblk]); obtain ⟨c0, c1, c2⟩ : w1.cell? ⟨w.heap.size, 0, none⟩ = some (.int .i64 0) ∧ w1.cell? ⟨w.heap.size, 1, none⟩ = some (.int .i64 0) ∧ w1.cell? ⟨w.heap.size, 2, none⟩ = some (.int .i64 0) := (by simp only [World.cell?, hblk]; exact ⟨rfl, rfl, rfl⟩); have HBK := Lib.hid hblk; clear hblk)
  obtain ⟨wf, hwf⟩ : ∃ wf, wf = (((w1.setCell ⟨w.heap.size, 0, none⟩ (.int .i64 i)).setCell ⟨w.heap.size, 1, none⟩ (.int .i64 (-1))).setCell ⟨w.heap.size, 2, none⟩ (.int .i64 f)) := ⟨_, rfl⟩
  have hx : Ext w wf := by
    rw [hwf]
    exact ((((Ext.refl w).alloc _).trans hb1).setCell (Nat.le_refl _) _ |>.setCell (Nat.le_refl _) _).setCell (Nat.le_refl _) _
  have h3 := set_threeJ HBK.out (.int .i64 i) (.int .i64 (-1)) (.int .i64 f)
  rw [← hwf] at h3 ⊢
  obtain ⟨k0, k1, k2⟩ : wf.cell? ⟨w.heap.size, 0, none⟩ = some (.int .i64 i) ∧ wf.cell? ⟨w.heap.size, 1, none⟩ = some (.int .i64 (-1)) ∧ wf.cell? ⟨w.heap.size, 2, none⟩ = some (.int .i64 f) := by
    simp only [World.cell?, h3]
    exact ⟨rfl, rfl, rfl⟩
  clear hwf h3
  refine bodyPost_ret (v := .tuple #[.agg #[.int .i64 i, .int .i64 (-1), .int .i64 f], .bool true]) (by simp [results, Tryz.results138, go_sem, k0, k1, k2]) rfl ?_
  exact ⟨rfl, hx⟩
theorem parts_in (p : Int) (w : World) (h : inB p = true) : Calls Tryz.prog 138 #[.int .i32 p] w fun e w' => e = .returned (.tuple #[.agg #[.int .i64 (ptsI p), .int .i64 (ptsM p), .int .i64 (ptsF p)], .bool true]) ∧ Ext w w' := by
  have hp := (inB_iff p).1 h
  unfold ptsI ptsM ptsF
  by_cases h1 : 44032 ≤ p
  · simp only [if_pos h1]
    exact parts_syl p w h1 (by omega)
  · simp only [if_neg h1]
    by_cases h2 : 12623 ≤ p
    · simp only [if_pos h2]
      exact parts_vow p w h2 (by omega)
    · simp only [if_neg h2]
      exact parts_con p w (by omega) (by omega)
theorem bytes_yes (p : Int) (w : World) (h : inB p = true) : Calls Tryz.prog 108 #[.int .i32 p] w fun e w' => e = .returned (.tuple #[.string (twoB (backP p).toNat), .bool true]) ∧ Ext w w' := by
  have HP := Lib.hid (fun w => parts_in p w h)
  obtain ⟨h1, h2, h3, h4, h5, h6⟩ := pts_bd p h
  obtain ⟨c1, c2, c3, c4, c5, c6⟩ := codeP_bd _ _ _ h1 h2 h3 h4 h5 h6
  have HC := Lib.hid (fun w => code_any _ _ _ w h1 h2 h3 h4 h5 h6)
  have HB := Lib.hid (fun w => big_two (codeP (ptsI p) (ptsM p) (ptsF p)).toNat w (by omega))
  unfold backP
  have e : (((codeP (ptsI p) (ptsM p) (ptsF p)).toNat : Nat) : Int) = codeP (ptsI p) (ptsM p) (ptsF p) := by omega
  rw [e] at HB
  generalize twoB (codeP (ptsI p) (ptsM p) (ptsF p)).toNat = s at *
  generalize codeP (ptsI p) (ptsM p) (ptsF p) = c at *
  generalize ptsI p = i at *
  generalize ptsM p = m at *
  generalize ptsF p = f at *
  clear h c1 c2 c3 c4 e
  go_enter Tryz.func108, Tryz.ntmps108
  go_wp2_with (first
    | (go_at_call 138; refine (HP.out _).mono ?_; rintro e w1 ⟨rfl, hb1⟩)
    | (go_at_call 140; refine (HC.out _).mono ?_; rintro e w2 ⟨rfl, hb2⟩)
    | (go_at_call 139; refine (HB.out _).mono ?_; rintro e w3 ⟨rfl, hb3⟩))
  go_ret2
  exact ⟨rfl, ((hb1.alloc _).trans hb2).trans hb3⟩
end Go.Proofs.YtndopjmdpmkgeaaGreatDoor

namespace Go.Proofs.YtndopjmdpmkgeaaGreatDoor
open Go Go.ChangeShapes Go.WideShapes Go.ChangeAt Go.RowKit
set_option linter.unusedSimpArgs false
set_option linter.unusedVariables false

theorem sign_u (u v : UInt8) (w : World) : Calls Tryz.prog 107 #[.int .u8 u.toNat, .int .u8 v.toNat] w (SignOut w (signJ (u.toNat * 256 + v.toNat))) := sign_twoJ u.toNat v.toNat w u.toNat_lt v.toNat_lt
theorem ex_sign (w : World) : Calls Tryz.prog 107 #[.int .u8 136, .int .u8 97] w fun e w' => e = .returned (.tuple #[.int .i32 44032, .bool true]) ∧ Ext w w' := by
  have h := sign_twoJ 136 97 w (by decide) (by decide)
  have e : signJ (136 * 256 + 97) = 44032 := by decide +kernel
  rw [e] at h
  exact h
theorem ex_bytes (w : World) : Calls Tryz.prog 108 #[.int .i32 12595] w fun e w' => e = .returned (.tuple #[.string ⟨#[132, 68]⟩, .bool true]) ∧ Ext w w' := by
  have h := bytes_yes 12595 w (by decide)
  have e : twoB (backP 12595).toNat = ⟨#[132, 68]⟩ := by decide +kernel
  rw [e] at h
  exact h
theorem awake6_any (w : World) : Calls Tryz.prog 62 #[] w fun e w' => e = .returned (.bool true) ∧ Ext w w' := by
  go_enter Tryz.func62, Tryz.ntmps62
  go_wp2_with (first
    | (go_at_call 107; refine (ex_sign _).mono ?_; rintro e w1 ⟨rfl, hb1⟩)
    | (go_at_call 108; refine (ex_bytes _).mono ?_; rintro e w2 ⟨rfl, hb2⟩))
  go_ret
  exact ⟨rfl, hb1.trans hb2⟩
end Go.Proofs.YtndopjmdpmkgeaaGreatDoor

