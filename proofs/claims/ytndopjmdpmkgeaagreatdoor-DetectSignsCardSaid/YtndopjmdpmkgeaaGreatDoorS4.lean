/-
  What the proof of this claim leans on (S4).
-/
import Derived.Test.YtndopjmdpmkgeaaGreatDoorS1
import Derived.Test.YtndopjmdpmkgeaaGreatDoorS3
import Derived.IntWalk
namespace Go.Proofs.YtndopjmdpmkgeaaGreatDoor
open Go Go.ChangeShapes Go.WideShapes Go.ChangeAt Go.RowKit
set_option linter.unusedSimpArgs false
set_option linter.unusedVariables false

/-- The six bits of a byte that goes on; -1: it doesn't. -/
def moreZ (s : ByteArray) (j : Nat) : Int := if h : j < s.size then (if 128 ≤ s[j].toNat ∧ s[j].toNat ≤ 191 then (s[j].toNat : Int) - 128 else -1) else -1
theorem moreZ_none {s : ByteArray} {j : Nat} (h : ¬ j < s.size) : moreZ s j = -1 := by unfold moreZ; rw [dif_neg h]
theorem moreZ_no {s : ByteArray} {j : Nat} (h : j < s.size) (h2 : ¬ (128 ≤ s[j].toNat ∧ s[j].toNat ≤ 191)) : moreZ s j = -1 := by unfold moreZ; rw [dif_pos h, if_neg h2]
theorem moreZ_yes {s : ByteArray} {j : Nat} (h : j < s.size) (h2 : 128 ≤ s[j].toNat ∧ s[j].toNat ≤ 191) : moreZ s j = (s[j].toNat : Int) - 128 := by unfold moreZ; rw [dif_pos h, if_pos h2]
theorem more_nat (s : ByteArray) (j : Nat) (w : World) (hs : s.size ≤ 1099511627776) : Calls Tryz.prog 82 #[.string s, .int .i64 (j : Int)] w fun e w' => e = .returned (.int .i32 (moreZ s j)) ∧ w = w' := by
  by_cases h : j < s.size
  · have b1 : ¬ (s.size : Int) ≤ (j : Int) := by omega
    by_cases h1 : 128 ≤ s[j].toNat
    · have c1 : ¬ (s[j].toNat : Int) < 128 := by omega
      by_cases h2 : s[j].toNat ≤ 191
      · have c2 : ¬ (191 : Int) < (s[j].toNat : Int) := by omega
        rw [moreZ_yes h ⟨h1, h2⟩]
        go_enter Tryz.func82, Tryz.ntmps82
        go_wp2
        go_ret
        exact ⟨by first | rfl | simp, rfl⟩
      · have c2 : (191 : Int) < (s[j].toNat : Int) := by omega
        rw [moreZ_no h (fun h => h2 h.2)]
        go_enter Tryz.func82, Tryz.ntmps82
        go_wp2
        go_ret
        exact ⟨by first | rfl | simp, rfl⟩
    · have c1 : (s[j].toNat : Int) < 128 := by omega
      rw [moreZ_no h (fun h => h1 h.1)]
      go_enter Tryz.func82, Tryz.ntmps82
      go_wp2
      go_ret
      exact ⟨by first | rfl | simp, rfl⟩
  · have b1 : (s.size : Int) ≤ (j : Int) := by omega
    rw [moreZ_none h]
    go_enter Tryz.func82, Tryz.ntmps82
    go_wp2
    go_ret
    exact ⟨by first | rfl | simp, rfl⟩
theorem more_int (s : ByteArray) (i k : Nat) (w : World) (hs : s.size ≤ 1099511627776) : Calls Tryz.prog 82 #[.string s, .int .i64 ((i : Int) + (k : Int))] w fun e w' => e = .returned (.int .i32 (moreZ s (i + k))) ∧ w = w' := by
  have h := more_nat s (i + k) w hs
  rwa [Int.natCast_add] at h
theorem moreZ_le (s : ByteArray) (j : Nat) : -1 ≤ moreZ s j ∧ moreZ s j ≤ 63 := by
  by_cases h : j < s.size
  · by_cases h2 : 128 ≤ s[j].toNat ∧ s[j].toNat ≤ 191
    · rw [moreZ_yes h h2]; omega
    · rw [moreZ_no h h2]; omega
  · rw [moreZ_none h]; omega
set_option maxRecDepth 100000 in
theorem rat_ascii (s : ByteArray) (i : Nat) (w : World) (hi : i < s.size) (hs : s.size ≤ 1099511627776) (h : s[i].toNat < 128) :
    Calls Tryz.prog 46 #[.string s, .int .i64 i] w fun e w' => e = .returned (.tuple #[.int .i32 s[i].toNat, .int .i64 1]) ∧ Ext w w' := by
  have c0 : (s[i].toNat : Int) < 128 := by omega
  go_enter Tryz.func46, Tryz.ntmps46
  go_wp2
  go_ret2
  exact ⟨rfl, Ext.refl _⟩
set_option maxRecDepth 100000 in
theorem rat_none (s : ByteArray) (i : Nat) (w : World) (hi : i < s.size) (hs : s.size ≤ 1099511627776) (h : (128 ≤ s[i].toNat ∧ s[i].toNat < 192) ∨ 248 ≤ s[i].toNat) :
    Calls Tryz.prog 46 #[.string s, .int .i64 i] w fun e w' => e = .returned (.tuple #[.int .i32 0, .int .i64 0]) ∧ Ext w w' := by
  have c0 : ¬ (s[i].toNat : Int) < 128 := by omega
  rcases h with ⟨h1, h2⟩ | h1
  · have c1 : ¬ (192 : Int) ≤ (s[i].toNat : Int) := by omega
    have c2 : ¬ (224 : Int) ≤ (s[i].toNat : Int) := by omega
    have c3 : ¬ (240 : Int) ≤ (s[i].toNat : Int) := by omega
    go_enter Tryz.func46, Tryz.ntmps46
    go_wp2
    go_ret2
    exact ⟨rfl, Ext.refl _⟩
  · have cb : (s[i].toNat : Int) < 256 := by have := s[i].toNat_lt; omega
    have c1 : (192 : Int) ≤ (s[i].toNat : Int) := by omega
    have c2 : ¬ (s[i].toNat : Int) < 224 := by omega
    have c3 : (224 : Int) ≤ (s[i].toNat : Int) := by omega
    have c4 : ¬ (s[i].toNat : Int) < 240 := by omega
    have c5 : (240 : Int) ≤ (s[i].toNat : Int) := by omega
    have c6 : ¬ (s[i].toNat : Int) < 248 := by omega
    go_enter Tryz.func46, Tryz.ntmps46
    go_wp2
    go_ret2
    exact ⟨rfl, Ext.refl _⟩
/-- What the loop of At comes to. -/
structure AtOut (n : Nat) (p0 : Int) (m val : Nat → Int) (R1 R2 : Int) : Prop where
  v1 : val 1 = p0
  vs : ∀ k, 1 ≤ k → val (k + 1) = val k * 64 + m k
  bd : ∀ k, 1 ≤ k → k ≤ n → (∀ j, 1 ≤ j → j < k → 0 ≤ m j) → 0 ≤ val k ∧ val k ≤ 8388608
  ml : ∀ k, -1 ≤ m k ∧ m k ≤ 63
  neg : ∀ k, 1 ≤ k → k < n → (∀ j, 1 ≤ j → j < k → 0 ≤ m j) → m k < 0 → R1 = 0 ∧ R2 = 0
  bad1 : (∀ j, 1 ≤ j → j < n → 0 ≤ m j) → isSign (val n) = false → R1 = 0 ∧ R2 = 0
  bad2 : (∀ j, 1 ≤ j → j < n → 0 ≤ m j) → isSign (val n) = true → (signText (val n)).size ≠ n → R1 = 0 ∧ R2 = 0
  good : (∀ j, 1 ≤ j → j < n → 0 ≤ m j) → isSign (val n) = true → (signText (val n)).size = n → R1 = val n ∧ R2 = n
set_option maxRecDepth 100000 in
set_option maxHeartbeats 2000000 in
theorem rat_2 (s : ByteArray) (i : Nat) (w : World) (hi : i < s.size) (hs : s.size ≤ 1099511627776) (h1 : 192 ≤ s[i].toNat) (h2 : s[i].toNat < 224) (m val : Nat → Int) (R1 R2 : Int)
    (M : ∀ k : Nat, ∀ w : World, Calls Tryz.prog 82 #[.string s, .int .i64 ((i : Int) + (k : Int))] w fun e w' => e = .returned (.int .i32 (m k)) ∧ w = w')
    (O : AtOut 2 ((s[i].toNat : Int) - 192) m val R1 R2) :
    Calls Tryz.prog 46 #[.string s, .int .i64 i] w fun e w' => e = .returned (.tuple #[.int .i32 R1, .int .i64 R2]) ∧ Ext w w' := by
  have c0 : ¬ (s[i].toNat : Int) < 128 := by omega
  have c1 : (192 : Int) ≤ (s[i].toNat : Int) := by omega
  have c2 : (s[i].toNat : Int) < 224 := by omega
  have HM := Lib.hid M
  have HO := Lib.hid O
  clear M O
  go_enter Tryz.func46, Tryz.ntmps46
  go_wp2
  go_loop [8, 9] (fun p k => ∃ q : Nat, 1 ≤ q ∧ q ≤ 2 ∧ k = .int .i64 q ∧ p = .int .i32 (val q) ∧ Hid (∀ j, 1 ≤ j → j < q → 0 ≤ m j)) (fun _ k => 2 - (intOf k).toNat)
  case atStart => exact ⟨1, by omega, by omega, rfl, by rw [HO.out.v1], fun j a b => by omega⟩
  case round =>
    obtain ⟨q, hq1, hq2, rfl, rfl, HJ⟩ := hrel
    have hbd := HO.out.bd q hq1 hq2 HJ.out
    by_cases hlt : q < 2
    · have hml := HO.out.ml q
      have hvs := HO.out.vs q hq1
      have hneg := HO.out.neg q hq1 hlt HJ.out
      have HMQ := Lib.hid (HM.out q)
      have HVS := Lib.hid hvs
      clear hvs
      generalize hmq : m q = z at hml hneg HMQ HVS
      have HZ := Lib.hid hmq
      clear hmq
      by_cases hz : z < 0
      · obtain ⟨r1, r2⟩ := hneg hz
        have HR1 := Lib.hid r1
        have HR2 := Lib.hid r2
        clear r1 r2 hneg HVS HO HM
        go_wp2_with (go_at_call 82; refine (HMQ.out _).mono ?_; rintro e w1 ⟨rfl, rfl⟩)
        go_ret2
        exact ⟨by rw [HR1.out, HR2.out]; rfl, Ext.refl _⟩
      · clear hneg
        generalize val q = y at hbd HVS
        go_wp2_with (go_at_call 82; refine (HMQ.out _).mono ?_; rintro e w1 ⟨rfl, rfl⟩)
        go_round
        case rel =>
          refine ⟨q + 1, by omega, by omega, by go_num, by rw [HVS.out], ?_⟩
          intro j a b
          by_cases e : j = q
          · subst e; rw [HZ.out]; omega
          · exact HJ.out j a (by omega)
        case measure => simp [intOf]; omega
    · have hqn : q = 2 := by omega
      subst hqn
      have hb1 := HO.out.bad1 HJ.out
      have hb2 := HO.out.bad2 HJ.out
      have hgd := HO.out.good HJ.out
      clear HO HM HJ
      generalize val 2 = y at hbd hb1 hb2 hgd
      have HS := Lib.hid (fun w => rscalar_any y w)
      cases hy : isSign y
      · obtain ⟨r1, r2⟩ := hb1 hy
        rw [hy] at HS
        have HR1 := Lib.hid r1
        have HR2 := Lib.hid r2
        clear r1 r2 hb1 hb2 hgd hy
        go_wp2_with (go_at_call 83; refine (HS.out _).mono ?_; rintro e w1 ⟨rfl, rfl⟩)
        go_ret2
        exact ⟨by rw [HR1.out, HR2.out]; rfl, Ext.refl _⟩
      · have HB := Lib.hid (fun w => rbytes_any y w hy)
        have hsz := sign_size y
        have hb2 := hb2 hy
        have hgd := hgd hy
        rw [hy] at HS
        clear hb1 hy
        generalize signText y = g at HB hsz hb2 hgd
        by_cases hg : g.size = 2
        · obtain ⟨r1, r2⟩ := hgd hg
          have HR1 := Lib.hid r1
          have HR2 := Lib.hid r2
          have hgi : (g.size : Int) = 2 := by omega
          clear r1 r2 hb2 hgd
          go_wp2_with (first | (go_at_call 83; refine (HS.out _).mono ?_; rintro e w1 ⟨rfl, rfl⟩) | (go_at_call 54; refine (HB.out _).mono ?_; rintro e w2 ⟨rfl, hb2⟩))
          go_ret2
          exact ⟨by rw [HR1.out, HR2.out]; rfl, hb2⟩
        · obtain ⟨r1, r2⟩ := hb2 hg
          have HR1 := Lib.hid r1
          have HR2 := Lib.hid r2
          have hgi : ¬ (g.size : Int) = 2 := by omega
          clear r1 r2 hb2 hgd
          go_wp2_with (first | (go_at_call 83; refine (HS.out _).mono ?_; rintro e w1 ⟨rfl, rfl⟩) | (go_at_call 54; refine (HB.out _).mono ?_; rintro e w2 ⟨rfl, hb2⟩))
          go_ret2
          exact ⟨by rw [HR1.out, HR2.out]; rfl, hb2⟩
set_option maxRecDepth 100000 in
set_option maxHeartbeats 2000000 in
theorem rat_3 (s : ByteArray) (i : Nat) (w : World) (hi : i < s.size) (hs : s.size ≤ 1099511627776) (h1 : 224 ≤ s[i].toNat) (h2 : s[i].toNat < 240) (m val : Nat → Int) (R1 R2 : Int)
    (M : ∀ k : Nat, ∀ w : World, Calls Tryz.prog 82 #[.string s, .int .i64 ((i : Int) + (k : Int))] w fun e w' => e = .returned (.int .i32 (m k)) ∧ w = w')
    (O : AtOut 3 ((s[i].toNat : Int) - 224) m val R1 R2) :
    Calls Tryz.prog 46 #[.string s, .int .i64 i] w fun e w' => e = .returned (.tuple #[.int .i32 R1, .int .i64 R2]) ∧ Ext w w' := by
  have c0 : ¬ (s[i].toNat : Int) < 128 := by omega
  have c1 : (192 : Int) ≤ (s[i].toNat : Int) := by omega
  have c2 : ¬ (s[i].toNat : Int) < 224 := by omega
  have c3 : (224 : Int) ≤ (s[i].toNat : Int) := by omega
  have c4 : (s[i].toNat : Int) < 240 := by omega
  have HM := Lib.hid M
  have HO := Lib.hid O
  clear M O
  go_enter Tryz.func46, Tryz.ntmps46
  go_wp2
  go_loop [8, 9] (fun p k => ∃ q : Nat, 1 ≤ q ∧ q ≤ 3 ∧ k = .int .i64 q ∧ p = .int .i32 (val q) ∧ Hid (∀ j, 1 ≤ j → j < q → 0 ≤ m j)) (fun _ k => 3 - (intOf k).toNat)
  case atStart => exact ⟨1, by omega, by omega, rfl, by rw [HO.out.v1], fun j a b => by omega⟩
  case round =>
    obtain ⟨q, hq1, hq2, rfl, rfl, HJ⟩ := hrel
    have hbd := HO.out.bd q hq1 hq2 HJ.out
    by_cases hlt : q < 3
    · have hml := HO.out.ml q
      have hvs := HO.out.vs q hq1
      have hneg := HO.out.neg q hq1 hlt HJ.out
      have HMQ := Lib.hid (HM.out q)
      have HVS := Lib.hid hvs
      clear hvs
      generalize hmq : m q = z at hml hneg HMQ HVS
      have HZ := Lib.hid hmq
      clear hmq
      by_cases hz : z < 0
      · obtain ⟨r1, r2⟩ := hneg hz
        have HR1 := Lib.hid r1
        have HR2 := Lib.hid r2
        clear r1 r2 hneg HVS HO HM
        go_wp2_with (go_at_call 82; refine (HMQ.out _).mono ?_; rintro e w1 ⟨rfl, rfl⟩)
        go_ret2
        exact ⟨by rw [HR1.out, HR2.out]; rfl, Ext.refl _⟩
      · clear hneg
        generalize val q = y at hbd HVS
        go_wp2_with (go_at_call 82; refine (HMQ.out _).mono ?_; rintro e w1 ⟨rfl, rfl⟩)
        go_round
        case rel =>
          refine ⟨q + 1, by omega, by omega, by go_num, by rw [HVS.out], ?_⟩
          intro j a b
          by_cases e : j = q
          · subst e; rw [HZ.out]; omega
          · exact HJ.out j a (by omega)
        case measure => simp [intOf]; omega
    · have hqn : q = 3 := by omega
      subst hqn
      have hb1 := HO.out.bad1 HJ.out
      have hb2 := HO.out.bad2 HJ.out
      have hgd := HO.out.good HJ.out
      clear HO HM HJ
      generalize val 3 = y at hbd hb1 hb2 hgd
      have HS := Lib.hid (fun w => rscalar_any y w)
      cases hy : isSign y
      · obtain ⟨r1, r2⟩ := hb1 hy
        rw [hy] at HS
        have HR1 := Lib.hid r1
        have HR2 := Lib.hid r2
        clear r1 r2 hb1 hb2 hgd hy
        go_wp2_with (go_at_call 83; refine (HS.out _).mono ?_; rintro e w1 ⟨rfl, rfl⟩)
        go_ret2
        exact ⟨by rw [HR1.out, HR2.out]; rfl, Ext.refl _⟩
      · have HB := Lib.hid (fun w => rbytes_any y w hy)
        have hsz := sign_size y
        have hb2 := hb2 hy
        have hgd := hgd hy
        rw [hy] at HS
        clear hb1 hy
        generalize signText y = g at HB hsz hb2 hgd
        by_cases hg : g.size = 3
        · obtain ⟨r1, r2⟩ := hgd hg
          have HR1 := Lib.hid r1
          have HR2 := Lib.hid r2
          have hgi : (g.size : Int) = 3 := by omega
          clear r1 r2 hb2 hgd
          go_wp2_with (first | (go_at_call 83; refine (HS.out _).mono ?_; rintro e w1 ⟨rfl, rfl⟩) | (go_at_call 54; refine (HB.out _).mono ?_; rintro e w2 ⟨rfl, hb2⟩))
          go_ret2
          exact ⟨by rw [HR1.out, HR2.out]; rfl, hb2⟩
        · obtain ⟨r1, r2⟩ := hb2 hg
          have HR1 := Lib.hid r1
          have HR2 := Lib.hid r2
          have hgi : ¬ (g.size : Int) = 3 := by omega
          clear r1 r2 hb2 hgd
          go_wp2_with (first | (go_at_call 83; refine (HS.out _).mono ?_; rintro e w1 ⟨rfl, rfl⟩) | (go_at_call 54; refine (HB.out _).mono ?_; rintro e w2 ⟨rfl, hb2⟩))
          go_ret2
          exact ⟨by rw [HR1.out, HR2.out]; rfl, hb2⟩
set_option maxRecDepth 100000 in
set_option maxHeartbeats 2000000 in
theorem rat_4 (s : ByteArray) (i : Nat) (w : World) (hi : i < s.size) (hs : s.size ≤ 1099511627776) (h1 : 240 ≤ s[i].toNat) (h2 : s[i].toNat < 248) (m val : Nat → Int) (R1 R2 : Int)
    (M : ∀ k : Nat, ∀ w : World, Calls Tryz.prog 82 #[.string s, .int .i64 ((i : Int) + (k : Int))] w fun e w' => e = .returned (.int .i32 (m k)) ∧ w = w')
    (O : AtOut 4 ((s[i].toNat : Int) - 240) m val R1 R2) :
    Calls Tryz.prog 46 #[.string s, .int .i64 i] w fun e w' => e = .returned (.tuple #[.int .i32 R1, .int .i64 R2]) ∧ Ext w w' := by
  have c0 : ¬ (s[i].toNat : Int) < 128 := by omega
  have c1 : (192 : Int) ≤ (s[i].toNat : Int) := by omega
  have c2 : ¬ (s[i].toNat : Int) < 224 := by omega
  have c3 : (224 : Int) ≤ (s[i].toNat : Int) := by omega
  have c4 : ¬ (s[i].toNat : Int) < 240 := by omega
  have c5 : (240 : Int) ≤ (s[i].toNat : Int) := by omega
  have c6 : (s[i].toNat : Int) < 248 := by omega
  have HM := Lib.hid M
  have HO := Lib.hid O
  clear M O
  go_enter Tryz.func46, Tryz.ntmps46
  go_wp2
  go_loop [8, 9] (fun p k => ∃ q : Nat, 1 ≤ q ∧ q ≤ 4 ∧ k = .int .i64 q ∧ p = .int .i32 (val q) ∧ Hid (∀ j, 1 ≤ j → j < q → 0 ≤ m j)) (fun _ k => 4 - (intOf k).toNat)
  case atStart => exact ⟨1, by omega, by omega, rfl, by rw [HO.out.v1], fun j a b => by omega⟩
  case round =>
    obtain ⟨q, hq1, hq2, rfl, rfl, HJ⟩ := hrel
    have hbd := HO.out.bd q hq1 hq2 HJ.out
    by_cases hlt : q < 4
    · have hml := HO.out.ml q
      have hvs := HO.out.vs q hq1
      have hneg := HO.out.neg q hq1 hlt HJ.out
      have HMQ := Lib.hid (HM.out q)
      have HVS := Lib.hid hvs
      clear hvs
      generalize hmq : m q = z at hml hneg HMQ HVS
      have HZ := Lib.hid hmq
      clear hmq
      by_cases hz : z < 0
      · obtain ⟨r1, r2⟩ := hneg hz
        have HR1 := Lib.hid r1
        have HR2 := Lib.hid r2
        clear r1 r2 hneg HVS HO HM
        go_wp2_with (go_at_call 82; refine (HMQ.out _).mono ?_; rintro e w1 ⟨rfl, rfl⟩)
        go_ret2
        exact ⟨by rw [HR1.out, HR2.out]; rfl, Ext.refl _⟩
      · clear hneg
        generalize val q = y at hbd HVS
        go_wp2_with (go_at_call 82; refine (HMQ.out _).mono ?_; rintro e w1 ⟨rfl, rfl⟩)
        go_round
        case rel =>
          refine ⟨q + 1, by omega, by omega, by go_num, by rw [HVS.out], ?_⟩
          intro j a b
          by_cases e : j = q
          · subst e; rw [HZ.out]; omega
          · exact HJ.out j a (by omega)
        case measure => simp [intOf]; omega
    · have hqn : q = 4 := by omega
      subst hqn
      have hb1 := HO.out.bad1 HJ.out
      have hb2 := HO.out.bad2 HJ.out
      have hgd := HO.out.good HJ.out
      clear HO HM HJ
      generalize val 4 = y at hbd hb1 hb2 hgd
      have HS := Lib.hid (fun w => rscalar_any y w)
      cases hy : isSign y
      · obtain ⟨r1, r2⟩ := hb1 hy
        rw [hy] at HS
        have HR1 := Lib.hid r1
        have HR2 := Lib.hid r2
        clear r1 r2 hb1 hb2 hgd hy
        go_wp2_with (go_at_call 83; refine (HS.out _).mono ?_; rintro e w1 ⟨rfl, rfl⟩)
        go_ret2
        exact ⟨by rw [HR1.out, HR2.out]; rfl, Ext.refl _⟩
      · have HB := Lib.hid (fun w => rbytes_any y w hy)
        have hsz := sign_size y
        have hb2 := hb2 hy
        have hgd := hgd hy
        rw [hy] at HS
        clear hb1 hy
        generalize signText y = g at HB hsz hb2 hgd
        by_cases hg : g.size = 4
        · obtain ⟨r1, r2⟩ := hgd hg
          have HR1 := Lib.hid r1
          have HR2 := Lib.hid r2
          have hgi : (g.size : Int) = 4 := by omega
          clear r1 r2 hb2 hgd
          go_wp2_with (first | (go_at_call 83; refine (HS.out _).mono ?_; rintro e w1 ⟨rfl, rfl⟩) | (go_at_call 54; refine (HB.out _).mono ?_; rintro e w2 ⟨rfl, hb2⟩))
          go_ret2
          exact ⟨by rw [HR1.out, HR2.out]; rfl, hb2⟩
        · obtain ⟨r1, r2⟩ := hb2 hg
          have HR1 := Lib.hid r1
          have HR2 := Lib.hid r2
          have hgi : ¬ (g.size : Int) = 4 := by omega
          clear r1 r2 hb2 hgd
          go_wp2_with (first | (go_at_call 83; refine (HS.out _).mono ?_; rintro e w1 ⟨rfl, rfl⟩) | (go_at_call 54; refine (HB.out _).mono ?_; rintro e w2 ⟨rfl, hb2⟩))
          go_ret2
          exact ⟨by rw [HR1.out, HR2.out]; rfl, hb2⟩
end Go.Proofs.YtndopjmdpmkgeaaGreatDoor
namespace Go.Proofs.YtndopjmdpmkgeaaGreatDoor
open Go Go.ChangeShapes Go.WideShapes Go.ChangeAt Go.RowKit
set_option linter.unusedSimpArgs false
set_option linter.unusedVariables false

/-- The decoder's sign and its bytes; 0: there is none. -/
def atR (l : List UInt8) : Int × Int := if (Lib.decodeL l).1 = 65533 ∧ (Lib.decodeL l).2 = 1 then (0, 0) else (((Lib.decodeL l).1 : Int), ((Lib.decodeL l).2 : Int))
theorem atR_bad {l : List UInt8} (h : Lib.decodeL l = (65533, 1)) : atR l = (0, 0) := by unfold atR; rw [h]; rfl
theorem atR_ok {l : List UInt8} {v n : Nat} (h : Lib.decodeL l = (v, n)) (h2 : n ≠ 1) : atR l = ((v : Int), (n : Int)) := by unfold atR; rw [h]; exact if_neg (fun k => h2 k.2)
theorem size_sign {p : Int} (h : isSign p = true) : (signText p).size = if p < 128 then 1 else if p < 2048 then 2 else if p < 65536 then 3 else 4 := by
  have hp := (isSign_iff p).1 h
  have hl : (signText p).size = (Lib.encodeRuneZ p).length := by
    show (Lib.encodeRune p).length = _
    exact List.length_map _
  rw [hl]
  by_cases h1 : p < 128
  · rw [if_pos h1, Lib.encodeRuneZ_one (by omega) (by omega)]; rfl
  by_cases h2 : p < 2048
  · rw [if_neg h1, if_pos h2, Lib.encodeRuneZ_two (by omega) (by omega)]; rfl
  by_cases h3 : p < 65536
  · rw [if_neg h1, if_neg h2, if_pos h3, Lib.encodeRuneZ_three (by omega)]; rfl
  · rw [if_neg h1, if_neg h2, if_neg h3, Lib.encodeRuneZ_four (by omega) (by omega)]; rfl
theorem bounds {n : Nat} {p0 : Int} {m val : Nat → Int} (hn : n ≤ 4) (v1 : val 1 = p0) (vs : ∀ k, 1 ≤ k → val (k + 1) = val k * 64 + m k) (ml : ∀ k, -1 ≤ m k ∧ m k ≤ 63) (h0 : 0 ≤ p0) (h1 : p0 ≤ 31) :
    ∀ k, 1 ≤ k → k ≤ n → (∀ j, 1 ≤ j → j < k → 0 ≤ m j) → 0 ≤ val k ∧ val k ≤ 8388608 := by
  intro k hk1 hk2 hj
  have w2 := vs 1 (by omega)
  have w3 := vs 2 (by omega)
  have w4 := vs 3 (by omega)
  have l1 := ml 1
  have l2 := ml 2
  have l3 := ml 3
  have hk : k = 1 ∨ k = 2 ∨ k = 3 ∨ k = 4 := by omega
  rcases hk with rfl | rfl | rfl | rfl
  · omega
  · have j1 := hj 1 (by omega) (by omega)
    have w2 : val 2 = val 1 * 64 + m 1 := w2
    omega
  · have j1 := hj 1 (by omega) (by omega)
    have j2 := hj 2 (by omega) (by omega)
    have w2 : val 2 = val 1 * 64 + m 1 := w2
    have w3 : val 3 = val 2 * 64 + m 2 := w3
    omega
  · have j1 := hj 1 (by omega) (by omega)
    have j2 := hj 2 (by omega) (by omega)
    have j3 := hj 3 (by omega) (by omega)
    have w2 : val 2 = val 1 * 64 + m 1 := w2
    have w3 : val 3 = val 2 * 64 + m 2 := w3
    have w4 : val 4 = val 3 * 64 + m 3 := w4
    omega
theorem atOut_zero {n : Nat} {p0 : Int} {m val : Nat → Int} (hn : n ≤ 4) (v1 : val 1 = p0) (vs : ∀ k, 1 ≤ k → val (k + 1) = val k * 64 + m k) (ml : ∀ k, -1 ≤ m k ∧ m k ≤ 63) (h0 : 0 ≤ p0) (h1 : p0 ≤ 31)
    (h : (∀ j, 1 ≤ j → j < n → 0 ≤ m j) → isSign (val n) = true → (signText (val n)).size = n → False) : AtOut n p0 m val 0 0 :=
  ⟨v1, vs, bounds hn v1 vs ml h0 h1, ml, fun _ _ _ _ _ => ⟨rfl, rfl⟩, fun _ _ => ⟨rfl, rfl⟩, fun _ _ _ => ⟨rfl, rfl⟩, fun a b c => (h a b c).elim⟩
theorem atOut_full {n : Nat} {p0 : Int} {m val : Nat → Int} (hn : n ≤ 4) (v1 : val 1 = p0) (vs : ∀ k, 1 ≤ k → val (k + 1) = val k * 64 + m k) (ml : ∀ k, -1 ≤ m k ∧ m k ≤ 63) (h0 : 0 ≤ p0) (h1 : p0 ≤ 31)
    (hm : ∀ j, 1 ≤ j → j < n → 0 ≤ m j) (hs : isSign (val n) = true) (hz : (signText (val n)).size = n) : AtOut n p0 m val (val n) n :=
  ⟨v1, vs, bounds hn v1 vs ml h0 h1, ml, fun k a b _ c => absurd (hm k a b) (by omega), fun _ b => by (rw [hs] at b; cases b), fun _ _ c => absurd hz c, fun _ _ _ => ⟨rfl, rfl⟩⟩
/-- What the loop adds up. -/
def valZ (p0 : Int) (m : Nat → Int) : Nat → Int
  | 0 => 0
  | 1 => p0
  | k + 2 => valZ p0 m (k + 1) * 64 + m (k + 1)
theorem valZ_succ (p0 : Int) (m : Nat → Int) (k : Nat) (h : 1 ≤ k) : valZ p0 m (k + 1) = valZ p0 m k * 64 + m k := by
  obtain ⟨j, rfl⟩ : ∃ j, k = j + 1 := ⟨k - 1, by omega⟩
  rfl
theorem byte_get (s : ByteArray) (i k : Nat) (h : i + k < s.size) : ((s.data.toList.drop i).getD k 0) = s[i + k] := by
  rw [List.getD, List.getElem?_drop, byte_at s (i + k) h]
  rfl
theorem moreZ_dec (s : ByteArray) (i k : Nat) (b : Nat) (hb : b = ((s.data.toList.drop i).getD k 0).toNat) : moreZ s (i + k) = if k < s.size - i ∧ b / 64 = 2 then ((b % 64 : Nat) : Int) else -1 := by
  by_cases h : i + k < s.size
  · rw [byte_get s i k h] at hb
    by_cases h2 : 128 ≤ b ∧ b ≤ 191
    · rw [moreZ_yes h (by rw [← hb]; exact h2), if_pos ⟨by omega, by omega⟩, ← hb]
      omega
    · rw [moreZ_no h (by rw [← hb]; exact h2), if_neg (by omega)]
  · rw [moreZ_none h, if_neg (by omega)]
theorem out2 (L b0 b1 b2 b3 : Nat) (h1 : 192 ≤ b0) (h2 : b0 < 224) (m : Nat → Int) (ml : ∀ k, -1 ≤ m k ∧ m k ≤ 63) (m1 : m 1 = if 1 < L ∧ b1 / 64 = 2 then ((b1 % 64 : Nat) : Int) else -1) (l : List UInt8) (hl : Lib.decodeL l = Lib.decodeN L b0 b1 b2 b3) :
    AtOut 2 ((b0 : Int) - 192) m (valZ ((b0 : Int) - 192) m) (atR l).1 (atR l).2 := by
  have hz := fun h => atOut_zero (n := 2) (p0 := (b0 : Int) - 192) (val := valZ ((b0 : Int) - 192) m) (by omega) rfl (valZ_succ _ m) ml (by omega) (by omega) h
  have hf := fun a b c => atOut_full (n := 2) (p0 := (b0 : Int) - 192) (val := valZ ((b0 : Int) - 192) m) (by omega) rfl (valZ_succ _ m) ml (by omega) (by omega) a b c
  have hv : valZ ((b0 : Int) - 192) m 2 = ((b0 : Int) - 192) * 64 + m 1 := rfl
  unfold Lib.decodeN at hl
  rw [if_neg (by omega)] at hl
  by_cases c1 : 1 < L ∧ b1 / 64 = 2
  · rw [if_pos ⟨by omega, c1⟩] at hl
    rw [if_pos c1] at m1
    by_cases c2 : b0 % 32 * 64 + b1 % 64 ≥ 128
    · rw [if_pos c2] at hl
      rw [atR_ok hl (by omega)]
      have hvn : valZ ((b0 : Int) - 192) m 2 = ((b0 % 32 * 64 + b1 % 64 : Nat) : Int) := by rw [hv]; omega
      have hs : isSign (valZ ((b0 : Int) - 192) m 2) = true := by rw [hvn, isSign_iff]; omega
      have h3 := hf (fun j a b => by have hj : j = 1 := (by omega); subst hj; omega) hs (by rw [size_sign hs, hvn, if_neg (by omega), if_pos (by omega)])
      rwa [hvn] at h3
    · rw [if_neg c2] at hl
      rw [atR_bad hl]
      refine hz (fun a hs c => ?_)
      rw [size_sign hs, if_pos (by omega)] at c
      omega
  · rw [if_neg (fun h => c1 h.2), if_neg (by omega), if_neg (by omega)] at hl
    rw [if_neg c1] at m1
    rw [atR_bad hl]
    exact hz (fun a _ _ => by have := a 1 (by omega) (by omega); omega)
theorem out3 (L b0 b1 b2 b3 : Nat) (h1 : 224 ≤ b0) (h2 : b0 < 240) (m : Nat → Int) (ml : ∀ k, -1 ≤ m k ∧ m k ≤ 63) (m1 : m 1 = if 1 < L ∧ b1 / 64 = 2 then ((b1 % 64 : Nat) : Int) else -1) (m2 : m 2 = if 2 < L ∧ b2 / 64 = 2 then ((b2 % 64 : Nat) : Int) else -1) (l : List UInt8) (hl : Lib.decodeL l = Lib.decodeN L b0 b1 b2 b3) :
    AtOut 3 ((b0 : Int) - 224) m (valZ ((b0 : Int) - 224) m) (atR l).1 (atR l).2 := by
  have hz := fun h => atOut_zero (n := 3) (p0 := (b0 : Int) - 224) (val := valZ ((b0 : Int) - 224) m) (by omega) rfl (valZ_succ _ m) ml (by omega) (by omega) h
  have hf := fun a b c => atOut_full (n := 3) (p0 := (b0 : Int) - 224) (val := valZ ((b0 : Int) - 224) m) (by omega) rfl (valZ_succ _ m) ml (by omega) (by omega) a b c
  have hv : valZ ((b0 : Int) - 224) m 3 = (((b0 : Int) - 224) * 64 + m 1) * 64 + m 2 := rfl
  unfold Lib.decodeN at hl
  rw [if_neg (by omega), if_neg (by omega)] at hl
  by_cases c1 : 1 < L ∧ b1 / 64 = 2
  · rw [if_pos c1] at m1
    by_cases c2 : 2 < L ∧ b2 / 64 = 2
    · rw [if_pos c2] at m2
      rw [if_pos ⟨by omega, c1, c2⟩] at hl
      have hvn : valZ ((b0 : Int) - 224) m 3 = ((b0 % 16 * 4096 + b1 % 64 * 64 + b2 % 64 : Nat) : Int) := by rw [hv]; omega
      by_cases c3 : b0 % 16 * 4096 + b1 % 64 * 64 + b2 % 64 ≥ 2048 ∧ (b0 % 16 * 4096 + b1 % 64 * 64 + b2 % 64 < 55296 ∨ (57344 ≤ b0 % 16 * 4096 + b1 % 64 * 64 + b2 % 64 ∧ b0 % 16 * 4096 + b1 % 64 * 64 + b2 % 64 ≤ 1114111))
      · rw [if_pos c3] at hl
        rw [atR_ok hl (by omega)]
        have hs : isSign (valZ ((b0 : Int) - 224) m 3) = true := by rw [hvn, isSign_iff]; omega
        have h3 := hf (fun j a b => by
          have hj : j = 1 ∨ j = 2 := by omega
          rcases hj with rfl | rfl <;> omega) hs (by rw [size_sign hs, hvn, if_neg (by omega), if_neg (by omega), if_pos (by omega)])
        rwa [hvn] at h3
      · rw [if_neg c3] at hl
        rw [atR_bad hl]
        refine hz (fun a hs c => ?_)
        rw [size_sign hs] at c
        rw [isSign_iff] at hs
        rw [hvn] at hs c
        by_cases k1 : ((b0 % 16 * 4096 + b1 % 64 * 64 + b2 % 64 : Nat) : Int) < 128
        · rw [if_pos k1] at c; omega
        · rw [if_neg k1] at c
          by_cases k2 : ((b0 % 16 * 4096 + b1 % 64 * 64 + b2 % 64 : Nat) : Int) < 2048
          · rw [if_pos k2] at c; omega
          · omega
    · rw [if_neg (fun h => c2 h.2.2), if_neg (by omega)] at hl
      rw [if_neg c2] at m2
      rw [atR_bad hl]
      exact hz (fun a _ _ => by have := a 2 (by omega) (by omega); omega)
  · rw [if_neg (fun h => c1 h.2.1), if_neg (by omega)] at hl
    rw [if_neg c1] at m1
    rw [atR_bad hl]
    exact hz (fun a _ _ => by have := a 1 (by omega) (by omega); omega)
theorem out4 (L b0 b1 b2 b3 : Nat) (h1 : 240 ≤ b0) (h2 : b0 < 248) (m : Nat → Int) (ml : ∀ k, -1 ≤ m k ∧ m k ≤ 63) (m1 : m 1 = if 1 < L ∧ b1 / 64 = 2 then ((b1 % 64 : Nat) : Int) else -1) (m2 : m 2 = if 2 < L ∧ b2 / 64 = 2 then ((b2 % 64 : Nat) : Int) else -1) (m3 : m 3 = if 3 < L ∧ b3 / 64 = 2 then ((b3 % 64 : Nat) : Int) else -1) (l : List UInt8) (hl : Lib.decodeL l = Lib.decodeN L b0 b1 b2 b3) :
    AtOut 4 ((b0 : Int) - 240) m (valZ ((b0 : Int) - 240) m) (atR l).1 (atR l).2 := by
  have hz := fun h => atOut_zero (n := 4) (p0 := (b0 : Int) - 240) (val := valZ ((b0 : Int) - 240) m) (by omega) rfl (valZ_succ _ m) ml (by omega) (by omega) h
  have hf := fun a b c => atOut_full (n := 4) (p0 := (b0 : Int) - 240) (val := valZ ((b0 : Int) - 240) m) (by omega) rfl (valZ_succ _ m) ml (by omega) (by omega) a b c
  have hv : valZ ((b0 : Int) - 240) m 4 = ((((b0 : Int) - 240) * 64 + m 1) * 64 + m 2) * 64 + m 3 := rfl
  unfold Lib.decodeN at hl
  rw [if_neg (by omega), if_neg (by omega), if_neg (by omega)] at hl
  by_cases c1 : 1 < L ∧ b1 / 64 = 2
  · rw [if_pos c1] at m1
    by_cases c2 : 2 < L ∧ b2 / 64 = 2
    · rw [if_pos c2] at m2
      by_cases c3 : 3 < L ∧ b3 / 64 = 2
      · rw [if_pos c3] at m3
        rw [if_pos ⟨by omega, c1, c2, c3⟩] at hl
        have hvn : valZ ((b0 : Int) - 240) m 4 = ((b0 % 8 * 262144 + b1 % 64 * 4096 + b2 % 64 * 64 + b3 % 64 : Nat) : Int) := by rw [hv]; omega
        generalize b0 % 8 * 262144 + b1 % 64 * 4096 + b2 % 64 * 64 + b3 % 64 = v at hl hvn
        by_cases c4 : v ≥ 65536 ∧ (v < 55296 ∨ (57344 ≤ v ∧ v ≤ 1114111))
        · rw [if_pos c4] at hl
          rw [atR_ok hl (by omega)]
          have hs : isSign (valZ ((b0 : Int) - 240) m 4) = true := by rw [hvn, isSign_iff]; omega
          have h3 := hf (fun j a b => by
            have hj : j = 1 ∨ j = 2 ∨ j = 3 := by omega
            rcases hj with rfl | rfl | rfl <;> omega) hs (by rw [size_sign hs, hvn, if_neg (by omega), if_neg (by omega), if_neg (by omega)])
          rwa [hvn] at h3
        · rw [if_neg c4] at hl
          rw [atR_bad hl]
          refine hz (fun a hs c => ?_)
          rw [size_sign hs] at c
          rw [isSign_iff] at hs
          rw [hvn] at hs c
          by_cases k1 : ((v : Nat) : Int) < 128
          · rw [if_pos k1] at c; omega
          · rw [if_neg k1] at c
            by_cases k2 : ((v : Nat) : Int) < 2048
            · rw [if_pos k2] at c; omega
            · rw [if_neg k2] at c
              by_cases k3 : ((v : Nat) : Int) < 65536
              · rw [if_pos k3] at c; omega
              · omega
      · rw [if_neg (fun h => c3 h.2.2.2)] at hl
        rw [if_neg c3] at m3
        rw [atR_bad hl]
        exact hz (fun a _ _ => by have := a 3 (by omega) (by omega); omega)
    · rw [if_neg (fun h => c2 h.2.2.1)] at hl
      rw [if_neg c2] at m2
      rw [atR_bad hl]
      exact hz (fun a _ _ => by have := a 2 (by omega) (by omega); omega)
  · rw [if_neg (fun h => c1 h.2.1)] at hl
    rw [if_neg c1] at m1
    rw [atR_bad hl]
    exact hz (fun a _ _ => by have := a 1 (by omega) (by omega); omega)
theorem rat_any (s : ByteArray) (i : Nat) (w : World) (hi : i < s.size) (hs : s.size ≤ 1099511627776) :
    Calls Tryz.prog 46 #[.string s, .int .i64 i] w fun e w' => e = .returned (.tuple #[.int .i32 (atR (s.data.toList.drop i)).1, .int .i64 (atR (s.data.toList.drop i)).2]) ∧ Ext w w' := by
  have hl := Lib.decodeL_N (s.data.toList.drop i)
  have hlen : (s.data.toList.drop i).length = s.size - i := List.length_drop
  have hb0 : (s.data.toList.drop i).getD 0 0 = s[i] := byte_get s i 0 hi
  rw [hlen, hb0] at hl
  have m1 := moreZ_dec s i 1 _ rfl
  have m2 := moreZ_dec s i 2 _ rfl
  have m3 := moreZ_dec s i 3 _ rfl
  have hM := fun (k : Nat) (w : World) => more_int s i k w hs
  have ml := fun k => moreZ_le s (i + k)
  by_cases h1 : s[i].toNat < 128
  · have e : Lib.decodeL (s.data.toList.drop i) = (s[i].toNat, 1) := by
      rw [hl]
      unfold Lib.decodeN
      rw [if_pos h1]
    have e2 : atR (s.data.toList.drop i) = ((s[i].toNat : Int), 1) := by
      unfold atR
      rw [e]
      exact if_neg (fun k => by have := k.1; simp at this; omega)
    rw [e2]
    exact rat_ascii s i w hi hs h1
  by_cases h2 : s[i].toNat < 192
  · have e : Lib.decodeL (s.data.toList.drop i) = (65533, 1) := by
      rw [hl]
      unfold Lib.decodeN
      rw [if_neg h1, if_neg (by omega), if_neg (by omega), if_neg (by omega)]
    rw [atR_bad e]
    exact rat_none s i w hi hs (.inl ⟨by omega, h2⟩)
  by_cases h3 : s[i].toNat < 224
  · exact rat_2 s i w hi hs (by omega) h3 _ _ _ _ hM (out2 _ _ _ _ _ (by omega) h3 _ ml m1 _ hl)
  by_cases h4 : s[i].toNat < 240
  · exact rat_3 s i w hi hs (by omega) h4 _ _ _ _ hM (out3 _ _ _ _ _ (by omega) h4 _ ml m1 m2 _ hl)
  by_cases h5 : s[i].toNat < 248
  · exact rat_4 s i w hi hs (by omega) h5 _ _ _ _ hM (out4 _ _ _ _ _ (by omega) h5 _ ml m1 m2 m3 _ hl)
  · have e : Lib.decodeL (s.data.toList.drop i) = (65533, 1) := by
      have hb := s[i].toNat_lt
      rw [hl]
      unfold Lib.decodeN
      rw [if_neg h1, if_neg (by omega), if_neg (by omega), if_neg (by omega)]
    rw [atR_bad e]
    exact rat_none s i w hi hs (.inr (by omega))
end Go.Proofs.YtndopjmdpmkgeaaGreatDoor
namespace Go.Proofs.YtndopjmdpmkgeaaGreatDoor
open Go Go.ChangeShapes Go.WideShapes Go.ChangeAt Go.RowKit
set_option linter.unusedSimpArgs false
set_option linter.unusedVariables false

theorem rat_bad (s : ByteArray) (i : Nat) (w : World) (hi : i < s.size) (hs : s.size ≤ 1099511627776) (h : (Lib.decodeL (s.data.toList.drop i)).1 = 65533 ∧ (Lib.decodeL (s.data.toList.drop i)).2 = 1) :
    Calls Tryz.prog 46 #[.string s, .int .i64 i] w fun e w' => e = .returned (.tuple #[.int .i32 0, .int .i64 0]) ∧ Ext w w' := by
  have := rat_any s i w hi hs
  have e : atR (s.data.toList.drop i) = (0, 0) := by unfold atR; rw [if_pos h]
  rwa [e] at this
theorem rat_ok (s : ByteArray) (i : Nat) (w : World) (hi : i < s.size) (hs : s.size ≤ 1099511627776) (h : ¬ ((Lib.decodeL (s.data.toList.drop i)).1 = 65533 ∧ (Lib.decodeL (s.data.toList.drop i)).2 = 1)) :
    Calls Tryz.prog 46 #[.string s, .int .i64 i] w fun e w' => e = .returned (.tuple #[.int .i32 (Lib.decodeL (s.data.toList.drop i)).1, .int .i64 (Lib.decodeL (s.data.toList.drop i)).2]) ∧ Ext w w' := by
  have := rat_any s i w hi hs
  have e : atR (s.data.toList.drop i) = (((Lib.decodeL (s.data.toList.drop i)).1 : Int), ((Lib.decodeL (s.data.toList.drop i)).2 : Int)) := by unfold atR; rw [if_neg h]
  rwa [e] at this
set_option maxRecDepth 100000 in
set_option maxHeartbeats 2000000 in
theorem rpoints_ok (s : ByteArray) (w : World) (hs : s.size ≤ 1099511627776) (hb : badS s < 0) :
    Calls Tryz.prog 26 #[.string s] w fun e w' => ∃ a cap, e = .returned (.tuple #[.slice a (runesL s.data.toList).length cap, .int .i64 (-1)]) ∧ IsRow w' a (runesL s.data.toList).length cap (runesL s.data.toList) ∧ Ext w w' := by
  obtain ⟨i0, hi, hz0, hz1, hz2⟩ := info_parts_i32
  obtain ⟨zs, hzs⟩ : ∃ zs, zs = runesL s.data.toList := ⟨_, rfl⟩
  obtain ⟨bb, hbb⟩ : ∃ bb, bb = badS s := ⟨_, rfl⟩
  try rw [← hzs]
  rw [← hbb] at hb
  try rw [← hbb]
  have HZ := Lib.hid hzs
  have HBB := Lib.hid hbb
  have HB := Lib.hid hb
  clear hzs hbb hb
  go_enter Tryz.func26, Tryz.ntmps26
  go_wp2
  go_loopw [4, 5] (fun v i wr => ∃ (k : Nat) (dn : List Int), k ≤ s.size ∧ i = .int .i64 k ∧ Ext w wr ∧ Hid (dn ++ runesL (s.data.toList.drop k) = zs) ∧ Hid (badL k (s.data.toList.drop k) = bb) ∧ wr.ownsRow w.heap.size 21 1 v dn.length (runeCellsOf dn) ∧ dn.length ≤ k) (fun _ i _ => s.size - (intOf i).toNat)
  case atStart => exact ⟨0, [], by omega, rfl, Ext.refl _, HZ.out.symm, HBB.out.symm, World.ownsRow_nil _ _ _ _, by decide⟩
  case round =>
    obtain ⟨k, dn, hk, rfl, hx, HS, HL, hown, hdk⟩ := hrel
    by_cases hlt : k < s.size
    · have hne := drop_ne hlt
      have hrs := runesL_step _ hne
      have hbs := badL_step k _ hne
      have hqw := Lib.decodeL_width (s.data.toList.drop k)
      have hql := Lib.decodeL_le _ hne
      rw [List.length_drop, show s.data.toList.length = s.size from rfl] at hql
      rw [List.drop_drop] at hrs hbs
      by_cases hbd : (Lib.decodeL (s.data.toList.drop k)).1 = 65533 ∧ (Lib.decodeL (s.data.toList.drop k)).2 = 1
      · rw [if_pos hbd, HL.out] at hbs
        have := HB.out
        exfalso
        omega
      · have HA : Hid (∀ w, Calls Tryz.prog 46 #[.string s, .int .i64 k] w fun e w' => e = .returned (.tuple #[.int .i32 (Lib.decodeL (s.data.toList.drop k)).1, .int .i64 (Lib.decodeL (s.data.toList.drop k)).2]) ∧ Ext w w') := fun w => rat_ok s k w hlt hs hbd
        rw [if_neg hbd] at hbs
        have HRS := Lib.hid hrs
        have HBS := Lib.hid hbs
        clear hrs hbs hbd hne
        generalize (Lib.decodeL (s.data.toList.drop k)).1 = p at HA HRS
        generalize (Lib.decodeL (s.data.toList.drop k)).2 = q at HA HRS HBS hqw hql
        have hq1 : ¬ ((q : Int) = 0) := by omega
        have hq2 : ((q : Int) == 0) = false := by simpa using hq1
        go_wp2_with (first
          | (go_at_call 46; refine (HA.out _).mono ?_; rintro e w1 ⟨rfl, hb1⟩; have hown2 := own_ext hown hb1; have hx1 := hx.trans hb1)
          | (at_builtin; refine wpList_append_own _ rfl _ _ 58 rfl w.heap.size 21 i0 (.int .i32 0) 1 4 Tryz.underlying58 hi hz0 hz1 hz2 rfl (by decide) _ _ _ rfl (hown2.alloc _) ⟨w1.heap.size, 0, none⟩ 1 1 [.int .i32 (p : Int)] rfl rfl (cell_one_new _ _ _) (fun x hx => by simp at hx; subst hx; rfl) (by unfold maxLen; omega) (by omega) (by have := hx1.size; simp; omega) ?_; intro v' w3 hown' hgrow3 hnil3
             have hx3 : Ext w w3 := Ext.own hx1 hown2 (Nat.le_refl _) hgrow3
             clear hgrow3 hnil3))
        go_roundw
        case rel =>
          refine ⟨k + q, dn ++ [(p : Int)], by omega, by go_num, hx3, ?_, ?_, ?_, by rw [List.length_append]; show dn.length + 1 ≤ k + q; omega⟩
          · show _ = zs
            rw [← HS.out, HRS.out, List.append_assoc]
            rfl
          · show _ = bb
            rw [← HL.out, HBS.out]
          · have e : runeCellsOf (dn ++ [(p : Int)]) = runeCellsOf dn ++ [.int .i32 (p : Int)] := by simp [runeCellsOf]
            rw [e, List.length_append]
            exact hown'
        case measure => simp [intOf]; omega
    · have e0 : s.data.toList.drop k = [] := List.drop_eq_nil_of_le (by have e2 : s.data.toList.length = s.size := rfl; omega)
      have h1 := HS.out
      have h2 := HL.out
      rw [e0, runesL_nil, List.append_nil] at h1
      rw [e0, badL_nil] at h2
      subst h1
      clear h2 HL HB HBB
      obtain ⟨a, cap, rfl, hrow⟩ := own_row hown
      have HRW := Lib.hid hrow
      clear hrow hown
      go_wp2
      go_ret2
      exact ⟨a, cap, rfl, HRW.out, hx⟩
set_option maxRecDepth 100000 in
set_option maxHeartbeats 2000000 in
theorem rpoints_bad (s : ByteArray) (w : World) (hs : s.size ≤ 1099511627776) (hb : ¬ badS s < 0) :
    Calls Tryz.prog 26 #[.string s] w fun e w' => e = .returned (.tuple #[.slice none 0 0, .int .i64 (badS s)]) ∧ Ext w w' := by
  obtain ⟨i0, hi, hz0, hz1, hz2⟩ := info_parts_i32
  obtain ⟨zs, hzs⟩ : ∃ zs, zs = runesL s.data.toList := ⟨_, rfl⟩
  obtain ⟨bb, hbb⟩ : ∃ bb, bb = badS s := ⟨_, rfl⟩
  try rw [← hzs]
  rw [← hbb] at hb
  try rw [← hbb]
  have HZ := Lib.hid hzs
  have HBB := Lib.hid hbb
  have HB := Lib.hid hb
  clear hzs hbb hb
  go_enter Tryz.func26, Tryz.ntmps26
  go_wp2
  go_loopw [4, 5] (fun v i wr => ∃ (k : Nat) (dn : List Int), k ≤ s.size ∧ i = .int .i64 k ∧ Ext w wr ∧ Hid (dn ++ runesL (s.data.toList.drop k) = zs) ∧ Hid (badL k (s.data.toList.drop k) = bb) ∧ wr.ownsRow w.heap.size 21 1 v dn.length (runeCellsOf dn) ∧ dn.length ≤ k) (fun _ i _ => s.size - (intOf i).toNat)
  case atStart => exact ⟨0, [], by omega, rfl, Ext.refl _, HZ.out.symm, HBB.out.symm, World.ownsRow_nil _ _ _ _, by decide⟩
  case round =>
    obtain ⟨k, dn, hk, rfl, hx, HS, HL, hown, hdk⟩ := hrel
    by_cases hlt : k < s.size
    · have hne := drop_ne hlt
      have hrs := runesL_step _ hne
      have hbs := badL_step k _ hne
      have hqw := Lib.decodeL_width (s.data.toList.drop k)
      have hql := Lib.decodeL_le _ hne
      rw [List.length_drop, show s.data.toList.length = s.size from rfl] at hql
      rw [List.drop_drop] at hrs hbs
      by_cases hbd : (Lib.decodeL (s.data.toList.drop k)).1 = 65533 ∧ (Lib.decodeL (s.data.toList.drop k)).2 = 1
      · rw [if_pos hbd, HL.out] at hbs
        have HA : Hid (∀ w, Calls Tryz.prog 46 #[.string s, .int .i64 k] w fun e w' => e = .returned (.tuple #[.int .i32 0, .int .i64 0]) ∧ Ext w w') := fun w => rat_bad s k w hlt hs hbd
        have HK := Lib.hid hbs
        clear hbs hrs hbd hqw hql hne
        go_wp2_with (go_at_call 46; refine (HA.out _).mono ?_; rintro e w1 ⟨rfl, hb1⟩)
        go_ret2
        exact ⟨by rw [HK.out]; rfl, hx.trans hb1⟩
      · have HA : Hid (∀ w, Calls Tryz.prog 46 #[.string s, .int .i64 k] w fun e w' => e = .returned (.tuple #[.int .i32 (Lib.decodeL (s.data.toList.drop k)).1, .int .i64 (Lib.decodeL (s.data.toList.drop k)).2]) ∧ Ext w w') := fun w => rat_ok s k w hlt hs hbd
        rw [if_neg hbd] at hbs
        have HRS := Lib.hid hrs
        have HBS := Lib.hid hbs
        clear hrs hbs hbd hne
        generalize (Lib.decodeL (s.data.toList.drop k)).1 = p at HA HRS
        generalize (Lib.decodeL (s.data.toList.drop k)).2 = q at HA HRS HBS hqw hql
        have hq1 : ¬ ((q : Int) = 0) := by omega
        have hq2 : ((q : Int) == 0) = false := by simpa using hq1
        go_wp2_with (first
          | (go_at_call 46; refine (HA.out _).mono ?_; rintro e w1 ⟨rfl, hb1⟩; have hown2 := own_ext hown hb1; have hx1 := hx.trans hb1)
          | (at_builtin; refine wpList_append_own _ rfl _ _ 58 rfl w.heap.size 21 i0 (.int .i32 0) 1 4 Tryz.underlying58 hi hz0 hz1 hz2 rfl (by decide) _ _ _ rfl (hown2.alloc _) ⟨w1.heap.size, 0, none⟩ 1 1 [.int .i32 (p : Int)] rfl rfl (cell_one_new _ _ _) (fun x hx => by simp at hx; subst hx; rfl) (by unfold maxLen; omega) (by omega) (by have := hx1.size; simp; omega) ?_; intro v' w3 hown' hgrow3 hnil3
             have hx3 : Ext w w3 := Ext.own hx1 hown2 (Nat.le_refl _) hgrow3
             clear hgrow3 hnil3))
        go_roundw
        case rel =>
          refine ⟨k + q, dn ++ [(p : Int)], by omega, by go_num, hx3, ?_, ?_, ?_, by rw [List.length_append]; show dn.length + 1 ≤ k + q; omega⟩
          · show _ = zs
            rw [← HS.out, HRS.out, List.append_assoc]
            rfl
          · show _ = bb
            rw [← HL.out, HBS.out]
          · have e : runeCellsOf (dn ++ [(p : Int)]) = runeCellsOf dn ++ [.int .i32 (p : Int)] := by simp [runeCellsOf]
            rw [e, List.length_append]
            exact hown'
        case measure => simp [intOf]; omega
    · have e0 : s.data.toList.drop k = [] := List.drop_eq_nil_of_le (by have e2 : s.data.toList.length = s.size := rfl; omega)
      have h1 := HS.out
      have h2 := HL.out
      rw [e0, runesL_nil, List.append_nil] at h1
      rw [e0, badL_nil] at h2
      exfalso
      have := HB.out
      omega
end Go.Proofs.YtndopjmdpmkgeaaGreatDoor

