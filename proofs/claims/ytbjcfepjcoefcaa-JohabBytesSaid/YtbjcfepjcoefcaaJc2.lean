/-
  Contracts of package johab (2): the sign of parts, the parts of a code, the sign of a code; the parts of a sign, its bytes.
-/
import Derived.Test.YtbjcfepjcoefcaaJc1
import Derived.Test.YtbjcfepjcoefcaaOcB
namespace Go.Proofs.Ytbjcfepjcoefcaa
open Go Go.ChangeShapes Go.WideShapes Go.ChangeAt Go.RowKit
set_option linter.unusedSimpArgs false
set_option linter.unusedVariables false

def nz (x : Int) : Bool := !(x == 0)
theorem nz_yes {x : Int} (h : x ≠ 0) : nz x = true := by simp [nz, h]
theorem nz_no : nz 0 = false := rfl
theorem cons_ini (i : Int) (w : World) (h1 : 0 ≤ i) (h2 : i ≤ 18) : Calls Try.prog 32 #[.int .i64 (65 + i)] w fun e w' => e = .returned (.tuple #[.int .i32 (aloneZ i), .bool true]) ∧ w = w' := by
  obtain ⟨n, rfl⟩ := Int.eq_ofNat_of_zero_le h1
  obtain ⟨e1, e2, e3⟩ := alone_ini ⟨n, by omega⟩
  simp only at e1 e2 e3
  rw [e1]
  have e : (65 + (n : Int)).toNat = 65 + n := by omega
  exact cons_yes _ _ w (by omega) (by omega) (by rw [e]) e2 e3
theorem cons_fin (f : Int) (w : World) (h1 : 0 < f) (h2 : f ≤ 27) : Calls Try.prog 32 #[.int .i64 (97 + f)] w fun e w' => e = .returned (.tuple #[.int .i32 (aloneZ (100 + f)), .bool (nz (aloneZ (100 + f)))]) ∧ w = w' := by
  obtain ⟨n, rfl⟩ := Int.eq_ofNat_of_zero_le (Int.le_of_lt h1)
  obtain ⟨e1, e3⟩ := alone_fin ⟨n, by omega⟩ (by simp only; omega)
  simp only at e1 e3
  have e : (97 + (n : Int)).toNat = 97 + n := by omega
  rw [e1]
  by_cases h : Lib.indexByte aloneB (97 + n).toUInt8 < 0
  · rw [if_pos h]
    exact cons_no _ _ w (by omega) (by omega) (by rw [e]) h
  · rw [if_neg h, nz_yes (by omega)]
    exact cons_yes _ _ w (by omega) (by omega) (by rw [e]) (by omega) e3
theorem alone_ini_nz (i : Int) (h1 : 0 ≤ i) (h2 : i ≤ 18) : nz (aloneZ i) = true := by
  obtain ⟨n, rfl⟩ := Int.eq_ofNat_of_zero_le h1
  obtain ⟨e1, e2, e3⟩ := alone_ini ⟨n, by omega⟩
  simp only at e1 e2 e3
  exact nz_yes (by omega)
def SignOut (w : World) (s : Int) (e : Ending) (w' : World) : Prop := e = .returned (.tuple #[.int .i32 s, .bool (nz s)]) ∧ Ext w w'
theorem sign_any (i m f : Int) (w : World) (h1 : -1 ≤ i) (h2 : i ≤ 18) (h3 : -1 ≤ m) (h4 : m ≤ 20) (h5 : 0 ≤ f) (h6 : f ≤ 27) : Calls Try.prog 23 #[.agg #[.int .i64 i, .int .i64 m, .int .i64 f]] w (SignOut w (partsJ i m f)) := by
  unfold SignOut
  have hno : ¬ (i < -1 ∨ 18 < i ∨ m = -2 ∨ f = -2) := by omega
  by_cases a : 0 ≤ i
  · have a1 : (i == -1) = false := beq_false_of_ne (by omega)
    have a2 : (i != -1) = true := by simp [bne, a1]
    by_cases b : 0 ≤ m
    · have b1 : (m == -1) = false := beq_false_of_ne (by omega)
      have b2 : (m != -1) = true := by simp [bne, b1]
      have hp : partsJ i m f = 44032 + (i * 21 + m) * 28 + f := by unfold partsJ; rw [if_neg hno, if_pos ⟨a, b⟩]
      rw [hp, nz_yes (by omega)]
      clear hp hno
      go_enter Try.func23, Try.ntmps23
      go_wp2_with (go_at_call 12; refine (syl_yes _ _ _ _ (by omega) (by omega) (by omega) (by omega) (by omega) (by omega)).mono ?_; rintro e w1 ⟨rfl, rfl⟩)
      go_ret2
      exact ⟨rfl, (Ext.refl w).alloc _⟩
    · obtain rfl : m = -1 := by omega
      by_cases c : f = 0
      · subst c
        have hp : partsJ i (-1) 0 = aloneZ i := by unfold partsJ; rw [if_neg hno, if_neg (by omega), if_neg (by omega), if_pos ⟨a, by omega, rfl⟩]
        rw [hp, alone_ini_nz i a h2]
        have HC := Lib.hid (fun w => cons_ini i w a h2)
        clear hp hno
        go_enter Try.func23, Try.ntmps23
        go_wp2_with (go_at_call 32; refine (HC.out _).mono ?_; rintro e w1 ⟨rfl, rfl⟩)
        go_ret2
        exact ⟨rfl, (Ext.refl w).alloc _⟩
      · have c1 : (f == 0) = false := beq_false_of_ne c
        have c2 : (f != 0) = true := by simp [bne, c1]
        have hp : partsJ i (-1) f = 0 := by unfold partsJ; rw [if_neg hno, if_neg (by omega), if_neg (by omega), if_neg (by omega), if_neg (by omega)]
        rw [hp, nz_no]
        clear hp hno
        go_enter Try.func23, Try.ntmps23
        go_wp2
        go_ret2
        exact ⟨rfl, (Ext.refl w).alloc _⟩
  · obtain rfl : i = -1 := by omega
    by_cases b : 0 ≤ m
    · have b1 : (m == -1) = false := beq_false_of_ne (by omega)
      have b2 : (m != -1) = true := by simp [bne, b1]
      by_cases c : f = 0
      · subst c
        have hp : partsJ (-1) m 0 = 12623 + m := by unfold partsJ; rw [if_neg hno, if_neg (by omega), if_pos ⟨by omega, b, rfl⟩]
        rw [hp, nz_yes (by omega)]
        clear hp hno
        go_enter Try.func23, Try.ntmps23
        go_wp2
        go_ret2
        exact ⟨rfl, (Ext.refl w).alloc _⟩
      · have c1 : (f == 0) = false := beq_false_of_ne c
        have c2 : (f != 0) = true := by simp [bne, c1]
        have hp : partsJ (-1) m f = 0 := by unfold partsJ; rw [if_neg hno, if_neg (by omega), if_neg (by omega), if_neg (by omega), if_neg (by omega)]
        rw [hp, nz_no]
        clear hp hno
        go_enter Try.func23, Try.ntmps23
        go_wp2
        go_ret2
        exact ⟨rfl, (Ext.refl w).alloc _⟩
    · obtain rfl : m = -1 := by omega
      by_cases c : f = 0
      · subst c
        have hp : partsJ (-1) (-1) 0 = 0 := by decide
        rw [hp, nz_no]
        clear hp hno
        go_enter Try.func23, Try.ntmps23
        go_wp2
        go_ret2
        exact ⟨rfl, (Ext.refl w).alloc _⟩
      · have c1 : (f == 0) = false := beq_false_of_ne c
        have c2 : (f != 0) = true := by simp [bne, c1]
        have hp : partsJ (-1) (-1) f = aloneZ (100 + f) := by unfold partsJ; rw [if_neg hno, if_neg (by omega), if_neg (by omega), if_neg (by omega), if_pos ⟨by omega, by omega, by omega⟩]
        rw [hp]
        have HC := Lib.hid (fun w => cons_fin f w (by omega) h6)
        generalize nz (aloneZ (100 + f)) = bb at HC ⊢
        generalize aloneZ (100 + f) = zz at HC ⊢
        clear hp hno
        go_enter Try.func23, Try.ntmps23
        go_wp2_with (go_at_call 32; refine (HC.out _).mono ?_; rintro e w1 ⟨rfl, rfl⟩)
        go_ret2
        exact ⟨rfl, (Ext.refl w).alloc _⟩
end Go.Proofs.Ytbjcfepjcoefcaa
