/-
  Contracts of package johab (3): the parts of a code, the sign of a code.
-/
import Derived.Test.YtbjcfepjcoefcaaJc2
namespace Go.Proofs.Ytbjcfepjcoefcaa
open Go Go.ChangeShapes Go.WideShapes Go.ChangeAt Go.RowKit
set_option linter.unusedSimpArgs false
set_option linter.unusedVariables false

set_option maxRecDepth 100000 in
set_option maxHeartbeats 1000000 in
theorem parts_of (c : Nat) (w : World) (h : c < 65536) : Calls Try.prog 22 #[.int .i64 c] w fun e w' => e = .returned (.tuple #[.agg #[.int .i64 (iniC c), .int .i64 (medV (c / 32 % 32)), .int .i64 (finV (c % 32))], .bool (okC c)]) ∧ Ext w w' := by
  have HI := Lib.hid (fun w => ini_of (c / 1024 % 32) w (by omega))
  have HM := Lib.hid (fun w => med_of (c / 32 % 32) w (by omega))
  have HF := Lib.hid (fun w => fin_of (c % 32) w (by omega))
  have e1 : ((c / 32 % 32 : Nat) : Int) = (c : Int) / 32 % 32 := by omega
  have e2 : ((c % 32 : Nat) : Int) = (c : Int) % 32 := by omega
  have e3 : ((c / 1024 % 32 : Nat) : Int) = (c : Int) / 1024 % 32 := by omega
  unfold iniC
  rw [e3] at HI ⊢
  rw [e1] at HM
  rw [e2] at HF
  obtain ⟨ok, hok⟩ : ∃ ok, ok = okC c := ⟨_, rfl⟩
  have hok2 := hok
  unfold okC at hok2
  rw [← hok]
  generalize medV (c / 32 % 32) = m at HM ⊢
  generalize finV (c % 32) = f at HF ⊢
  generalize medB (c / 32 % 32) = b2 at HM hok2
  generalize finB (c % 32) = b3 at HF hok2
  generalize iniB (c / 1024 % 32) = b1 at HI hok2
  have hb : (32768 ≤ c) ∨ (c < 32768) := by omega
  obtain ⟨n, hn⟩ : ∃ n : Int, n = c := ⟨_, rfl⟩
  rw [← hn] at HI HM HF ⊢
  have n0 : 0 ≤ n := by omega
  have n1 : n < 65536 := by omega
  have HC : Hid (∀ r : Bool, (n / 32768 == 1) = r → ok = (r && b1 && b2 && b3) ∧ (r = true ∨ r = false)) := fun r hr => by
    rw [hok2]
    rcases hb with hb | hb
    · have : n / 32768 = 1 := by omega
      rw [this] at hr
      subst hr
      rw [decide_eq_true hb]
      exact ⟨rfl, .inl rfl⟩
    · have : n / 32768 = 0 := by omega
      rw [this] at hr
      subst hr
      rw [decide_eq_false (by omega)]
      exact ⟨rfl, .inr rfl⟩
  have a1 : bits .and .i64 (n / 1024) 31 = n / 1024 % 32 := i64_and31 _ (by omega) (by omega)
  have a2 : bits .and .i64 (n / 32) 31 = n / 32 % 32 := i64_and31 _ (by omega) (by omega)
  have a3 : bits .and .i64 n 31 = n % 32 := i64_and31 _ (by omega) (by omega)
  obtain ⟨r, hr⟩ : ∃ r, (n / 32768 == 1) = r := ⟨_, rfl⟩
  obtain ⟨hk, hr2⟩ := HC.out r hr
  clear hok hok2 hb hn e1 e2 e3 h HC
  rcases hr2 with rfl | rfl
  · rcases b1 with _ | _
    · replace hk : ok = false := hk
      subst hk
      go_enter Try.func22, Try.ntmps22
      go_wp2_with (first
        | (go_at_call 29; refine (HI.out _).mono ?_; rintro e w1 ⟨rfl, rfl⟩)
        | (go_at_call 30; refine (HM.out _).mono ?_; rintro e w1 ⟨rfl, rfl⟩)
        | (go_at_call 31; refine (HF.out _).mono ?_; rintro e w1 ⟨rfl, rfl⟩))
      refine bodyPost_ret (v := .tuple #[.agg #[.int .i64 (n / 1024 % 32 - 2), .int .i64 m, .int .i64 f], .bool false]) (by simp [results, Try.results22, go_sem]) rfl ?_
      exact ⟨rfl, (Ext.refl w).alloc _⟩
    · rcases b2 with _ | _
      · replace hk : ok = false := hk
        subst hk
        go_enter Try.func22, Try.ntmps22
        go_wp2_with (first
          | (go_at_call 29; refine (HI.out _).mono ?_; rintro e w1 ⟨rfl, rfl⟩)
          | (go_at_call 30; refine (HM.out _).mono ?_; rintro e w1 ⟨rfl, rfl⟩)
          | (go_at_call 31; refine (HF.out _).mono ?_; rintro e w1 ⟨rfl, rfl⟩))
        refine bodyPost_ret (v := .tuple #[.agg #[.int .i64 (n / 1024 % 32 - 2), .int .i64 m, .int .i64 f], .bool false]) (by simp [results, Try.results22, go_sem]) rfl ?_
        exact ⟨rfl, (Ext.refl w).alloc _⟩
      · replace hk : ok = b3 := hk
        subst hk
        go_enter Try.func22, Try.ntmps22
        go_wp2_with (first
          | (go_at_call 29; refine (HI.out _).mono ?_; rintro e w1 ⟨rfl, rfl⟩)
          | (go_at_call 30; refine (HM.out _).mono ?_; rintro e w1 ⟨rfl, rfl⟩)
          | (go_at_call 31; refine (HF.out _).mono ?_; rintro e w1 ⟨rfl, rfl⟩))
        refine bodyPost_ret (v := .tuple #[.agg #[.int .i64 (n / 1024 % 32 - 2), .int .i64 m, .int .i64 f], .bool ok]) (by simp [results, Try.results22, go_sem]) rfl ?_
        exact ⟨rfl, (Ext.refl w).alloc _⟩
  · replace hk : ok = false := hk
    subst hk
    go_enter Try.func22, Try.ntmps22
    go_wp2_with (first
      | (go_at_call 29; refine (HI.out _).mono ?_; rintro e w1 ⟨rfl, rfl⟩)
      | (go_at_call 30; refine (HM.out _).mono ?_; rintro e w1 ⟨rfl, rfl⟩)
      | (go_at_call 31; refine (HF.out _).mono ?_; rintro e w1 ⟨rfl, rfl⟩))
    refine bodyPost_ret (v := .tuple #[.agg #[.int .i64 (n / 1024 % 32 - 2), .int .i64 m, .int .i64 f], .bool false]) (by simp [results, Try.results22, go_sem]) rfl ?_
    exact ⟨rfl, (Ext.refl w).alloc _⟩
theorem sign_of (c : Nat) (w : World) (h : c < 65536) : Calls Try.prog 14 #[.int .i64 c] w (SignOut w (signJ c)) := by
  have HP := Lib.hid (fun w => parts_of c w h)
  obtain ⟨ok, hok⟩ : ∃ ok, okC c = ok := ⟨_, rfl⟩
  rw [hok] at HP
  rcases ok with _ | _
  · rw [okC_no c hok]
    clear hok
    unfold SignOut
    rw [nz_no]
    generalize iniC c = i at HP
    generalize medV (c / 32 % 32) = m at HP
    generalize finV (c % 32) = f at HP
    go_enter Try.func14, Try.ntmps14
    go_wp2_with (go_at_call 22; refine (HP.out _).mono ?_; rintro e w1 ⟨rfl, hb1⟩)
    go_ret2
    exact ⟨rfl, hb1.alloc _⟩
  · obtain ⟨e1, h1, h2, h3, h4, h5, h6⟩ := okC_yes c hok
    rw [e1]
    clear hok e1
    generalize iniC c = i at *
    generalize medV (c / 32 % 32) = m at *
    generalize finV (c % 32) = f at *
    have HS := Lib.hid (fun w => sign_any i m f w h1 h2 h3 h4 h5 h6)
    generalize partsJ i m f = s at HS ⊢
    unfold SignOut at HS ⊢
    generalize nz s = b at HS ⊢
    go_enter Try.func14, Try.ntmps14
    go_wp2_with (first
      | (go_at_call 22; refine (HP.out _).mono ?_; rintro e w1 ⟨rfl, hb1⟩)
      | (go_at_call 23; refine (HS.out _).mono ?_; rintro e w2 ⟨rfl, hb2⟩))
    go_ret2
    exact ⟨rfl, (hb1.alloc _).trans hb2⟩
theorem sign_two (x y : Nat) (w : World) (hx : x < 256) (hy : y < 256) : Calls Try.prog 7 #[.int .u8 x, .int .u8 y] w (SignOut w (signJ (x * 256 + y))) := by
  have HS := Lib.hid (fun w => sign_of (x * 256 + y) w (by omega))
  have e1 : ((x * 256 + y : Nat) : Int) = (x : Int) * 256 + y := by omega
  rw [e1] at HS
  generalize signJ (x * 256 + y) = s at HS ⊢
  unfold SignOut at HS ⊢
  generalize nz s = b at HS ⊢
  have e2 : bits .or .i64 ((x : Int) * 256) y = (x : Int) * 256 + y := i64_or8 _ _ (by omega) (by omega) (by omega) (by omega)
  have e3 : IntKind.i64.wrap ((x : Int) * 256) = (x : Int) * 256 := IntWalk.i64_in _ (by omega)
  clear e1
  go_enter Try.func7, Try.ntmps7
  go_wp2_with (go_at_call 14; refine (HS.out _).mono ?_; rintro e w1 ⟨rfl, hb1⟩)
  go_ret2
  exact ⟨rfl, hb1⟩
end Go.Proofs.Ytbjcfepjcoefcaa
