/-
  The document's sign at a place.
-/
import Derived.Test.YtealeedbkjiabaaDoorPt8
import Derived.IntWalk
namespace Go.Proofs.YtealeedbkjiabaaDoor
open Go Go.ChangeShapes Go.WideShapes Go.ChangeAt Go.RowKit
set_option linter.unusedSimpArgs false
set_option linter.unusedVariables false

/-- The six bits of a byte that goes on; -1: it doesn't. -/
def moreZ (s : ByteArray) (j : Nat) : Int := if h : j < s.size then (if 128 ≤ s[j].toNat ∧ s[j].toNat ≤ 191 then (s[j].toNat : Int) - 128 else -1) else -1
theorem moreZ_none {s : ByteArray} {j : Nat} (h : ¬ j < s.size) : moreZ s j = -1 := by unfold moreZ; rw [dif_neg h]
theorem moreZ_no {s : ByteArray} {j : Nat} (h : j < s.size) (h2 : ¬ (128 ≤ s[j].toNat ∧ s[j].toNat ≤ 191)) : moreZ s j = -1 := by unfold moreZ; rw [dif_pos h, if_neg h2]
theorem moreZ_yes {s : ByteArray} {j : Nat} (h : j < s.size) (h2 : 128 ≤ s[j].toNat ∧ s[j].toNat ≤ 191) : moreZ s j = (s[j].toNat : Int) - 128 := by unfold moreZ; rw [dif_pos h, if_pos h2]
theorem more_nat (s : ByteArray) (j : Nat) (w : World) (hs : s.size ≤ 1099511627776) : Calls Tryd.prog 81 #[.string s, .int .i64 (j : Int)] w fun e w' => e = .returned (.int .i32 (moreZ s j)) ∧ w = w' := by
  by_cases h : j < s.size
  · have b1 : ¬ (s.size : Int) ≤ (j : Int) := by omega
    by_cases h1 : 128 ≤ s[j].toNat
    · have c1 : ¬ (s[j].toNat : Int) < 128 := by omega
      by_cases h2 : s[j].toNat ≤ 191
      · have c2 : ¬ (191 : Int) < (s[j].toNat : Int) := by omega
        rw [moreZ_yes h ⟨h1, h2⟩]
        go_enter Tryd.func81, Tryd.ntmps81
        go_wp2
        go_ret
        exact ⟨by first | rfl | simp, rfl⟩
      · have c2 : (191 : Int) < (s[j].toNat : Int) := by omega
        rw [moreZ_no h (fun h => h2 h.2)]
        go_enter Tryd.func81, Tryd.ntmps81
        go_wp2
        go_ret
        exact ⟨by first | rfl | simp, rfl⟩
    · have c1 : (s[j].toNat : Int) < 128 := by omega
      rw [moreZ_no h (fun h => h1 h.1)]
      go_enter Tryd.func81, Tryd.ntmps81
      go_wp2
      go_ret
      exact ⟨by first | rfl | simp, rfl⟩
  · have b1 : (s.size : Int) ≤ (j : Int) := by omega
    rw [moreZ_none h]
    go_enter Tryd.func81, Tryd.ntmps81
    go_wp2
    go_ret
    exact ⟨by first | rfl | simp, rfl⟩
theorem more_int (s : ByteArray) (i k : Nat) (w : World) (hs : s.size ≤ 1099511627776) : Calls Tryd.prog 81 #[.string s, .int .i64 ((i : Int) + (k : Int))] w fun e w' => e = .returned (.int .i32 (moreZ s (i + k))) ∧ w = w' := by
  have h := more_nat s (i + k) w hs
  rwa [Int.natCast_add] at h
theorem moreZ_le (s : ByteArray) (j : Nat) : -1 ≤ moreZ s j ∧ moreZ s j ≤ 63 := by
  by_cases h : j < s.size
  · by_cases h2 : 128 ≤ s[j].toNat ∧ s[j].toNat ≤ 191
    · rw [moreZ_yes h h2]; omega
    · rw [moreZ_no h h2]; omega
  · rw [moreZ_none h]; omega
set_option maxRecDepth 100000 in
theorem rat_ascii (s : ByteArray) (i : Nat) (w : World) (hi : i < s.size) (hs : s.size ≤ 1099511627776) (h : s[i].toNat < 128) :
    Calls Tryd.prog 59 #[.string s, .int .i64 i] w fun e w' => e = .returned (.tuple #[.int .i32 s[i].toNat, .int .i64 1]) ∧ Ext w w' := by
  have c0 : (s[i].toNat : Int) < 128 := by omega
  go_enter Tryd.func59, Tryd.ntmps59
  go_wp2
  go_ret2
  exact ⟨rfl, Ext.refl _⟩
set_option maxRecDepth 100000 in
theorem rat_none (s : ByteArray) (i : Nat) (w : World) (hi : i < s.size) (hs : s.size ≤ 1099511627776) (h : (128 ≤ s[i].toNat ∧ s[i].toNat < 192) ∨ 248 ≤ s[i].toNat) :
    Calls Tryd.prog 59 #[.string s, .int .i64 i] w fun e w' => e = .returned (.tuple #[.int .i32 0, .int .i64 0]) ∧ Ext w w' := by
  have c0 : ¬ (s[i].toNat : Int) < 128 := by omega
  rcases h with ⟨h1, h2⟩ | h1
  · have c1 : ¬ (192 : Int) ≤ (s[i].toNat : Int) := by omega
    have c2 : ¬ (224 : Int) ≤ (s[i].toNat : Int) := by omega
    have c3 : ¬ (240 : Int) ≤ (s[i].toNat : Int) := by omega
    go_enter Tryd.func59, Tryd.ntmps59
    go_wp2
    go_ret2
    exact ⟨rfl, Ext.refl _⟩
  · have cb : (s[i].toNat : Int) < 256 := by have := s[i].toNat_lt; omega
    have c1 : (192 : Int) ≤ (s[i].toNat : Int) := by omega
    have c2 : ¬ (s[i].toNat : Int) < 224 := by omega
    have c3 : (224 : Int) ≤ (s[i].toNat : Int) := by omega
    have c4 : ¬ (s[i].toNat : Int) < 240 := by omega
    have c5 : (240 : Int) ≤ (s[i].toNat : Int) := by omega
    have c6 : ¬ (s[i].toNat : Int) < 248 := by omega
    go_enter Tryd.func59, Tryd.ntmps59
    go_wp2
    go_ret2
    exact ⟨rfl, Ext.refl _⟩
/-- What the loop of At comes to. -/
structure AtOut (n : Nat) (p0 : Int) (m val : Nat → Int) (R1 R2 : Int) : Prop where
  v1 : val 1 = p0
  vs : ∀ k, 1 ≤ k → val (k + 1) = val k * 64 + m k
  bd : ∀ k, 1 ≤ k → k ≤ n → (∀ j, 1 ≤ j → j < k → 0 ≤ m j) → 0 ≤ val k ∧ val k ≤ 8388608
  ml : ∀ k, -1 ≤ m k ∧ m k ≤ 63
  neg : ∀ k, 1 ≤ k → k < n → (∀ j, 1 ≤ j → j < k → 0 ≤ m j) → m k < 0 → R1 = 0 ∧ R2 = 0
  bad1 : (∀ j, 1 ≤ j → j < n → 0 ≤ m j) → isSign (val n) = false → R1 = 0 ∧ R2 = 0
  bad2 : (∀ j, 1 ≤ j → j < n → 0 ≤ m j) → isSign (val n) = true → (signText (val n)).size ≠ n → R1 = 0 ∧ R2 = 0
  good : (∀ j, 1 ≤ j → j < n → 0 ≤ m j) → isSign (val n) = true → (signText (val n)).size = n → R1 = val n ∧ R2 = n
set_option maxRecDepth 100000 in
set_option maxHeartbeats 2000000 in
theorem rat_2 (s : ByteArray) (i : Nat) (w : World) (hi : i < s.size) (hs : s.size ≤ 1099511627776) (h1 : 192 ≤ s[i].toNat) (h2 : s[i].toNat < 224) (m val : Nat → Int) (R1 R2 : Int)
    (M : ∀ k : Nat, ∀ w : World, Calls Tryd.prog 81 #[.string s, .int .i64 ((i : Int) + (k : Int))] w fun e w' => e = .returned (.int .i32 (m k)) ∧ w = w')
    (O : AtOut 2 ((s[i].toNat : Int) - 192) m val R1 R2) :
    Calls Tryd.prog 59 #[.string s, .int .i64 i] w fun e w' => e = .returned (.tuple #[.int .i32 R1, .int .i64 R2]) ∧ Ext w w' := by
  have c0 : ¬ (s[i].toNat : Int) < 128 := by omega
  have c1 : (192 : Int) ≤ (s[i].toNat : Int) := by omega
  have c2 : (s[i].toNat : Int) < 224 := by omega
  have HM := Lib.hid M
  have HO := Lib.hid O
  clear M O
  go_enter Tryd.func59, Tryd.ntmps59
  go_wp2
  go_loop [8, 9] (fun p k => ∃ q : Nat, 1 ≤ q ∧ q ≤ 2 ∧ k = .int .i64 q ∧ p = .int .i32 (val q) ∧ Hid (∀ j, 1 ≤ j → j < q → 0 ≤ m j)) (fun _ k => 2 - (intOf k).toNat)
  case atStart => exact ⟨1, by omega, by omega, rfl, by rw [HO.out.v1], fun j a b => by omega⟩
  case round =>
    obtain ⟨q, hq1, hq2, rfl, rfl, HJ⟩ := hrel
    have hbd := HO.out.bd q hq1 hq2 HJ.out
    by_cases hlt : q < 2
    · have hml := HO.out.ml q
      have hvs := HO.out.vs q hq1
      have hneg := HO.out.neg q hq1 hlt HJ.out
      have HMQ := Lib.hid (HM.out q)
      have HVS := Lib.hid hvs
      clear hvs
      generalize hmq : m q = z at hml hneg HMQ HVS
      have HZ := Lib.hid hmq
      clear hmq
      by_cases hz : z < 0
      · obtain ⟨r1, r2⟩ := hneg hz
        have HR1 := Lib.hid r1
        have HR2 := Lib.hid r2
        clear r1 r2 hneg HVS HO HM
        go_wp2_with (go_at_call 81; refine (HMQ.out _).mono ?_; rintro e w1 ⟨rfl, rfl⟩)
        go_ret2
        exact ⟨by rw [HR1.out, HR2.out]; rfl, Ext.refl _⟩
      · clear hneg
        generalize val q = y at hbd HVS
        go_wp2_with (go_at_call 81; refine (HMQ.out _).mono ?_; rintro e w1 ⟨rfl, rfl⟩)
        go_round
        case rel =>
          refine ⟨q + 1, by omega, by omega, by go_num, by rw [HVS.out], ?_⟩
          intro j a b
          by_cases e : j = q
          · subst e; rw [HZ.out]; omega
          · exact HJ.out j a (by omega)
        case measure => simp [intOf]; omega
    · have hqn : q = 2 := by omega
      subst hqn
      have hb1 := HO.out.bad1 HJ.out
      have hb2 := HO.out.bad2 HJ.out
      have hgd := HO.out.good HJ.out
      clear HO HM HJ
      generalize val 2 = y at hbd hb1 hb2 hgd
      have HS := Lib.hid (fun w => rscalar_any y w)
      cases hy : isSign y
      · obtain ⟨r1, r2⟩ := hb1 hy
        rw [hy] at HS
        have HR1 := Lib.hid r1
        have HR2 := Lib.hid r2
        clear r1 r2 hb1 hb2 hgd hy
        go_wp2_with (go_at_call 69; refine (HS.out _).mono ?_; rintro e w1 ⟨rfl, rfl⟩)
        go_ret2
        exact ⟨by rw [HR1.out, HR2.out]; rfl, Ext.refl _⟩
      · have HB := Lib.hid (fun w => rbytes_any y w hy)
        have hsz := sign_size y
        have hb2 := hb2 hy
        have hgd := hgd hy
        rw [hy] at HS
        clear hb1 hy
        generalize signText y = g at HB hsz hb2 hgd
        by_cases hg : g.size = 2
        · obtain ⟨r1, r2⟩ := hgd hg
          have HR1 := Lib.hid r1
          have HR2 := Lib.hid r2
          have hgi : (g.size : Int) = 2 := by omega
          clear r1 r2 hb2 hgd
          go_wp2_with (first | (go_at_call 69; refine (HS.out _).mono ?_; rintro e w1 ⟨rfl, rfl⟩) | (go_at_call 58; refine (HB.out _).mono ?_; rintro e w2 ⟨rfl, hb2⟩))
          go_ret2
          exact ⟨by rw [HR1.out, HR2.out]; rfl, hb2⟩
        · obtain ⟨r1, r2⟩ := hb2 hg
          have HR1 := Lib.hid r1
          have HR2 := Lib.hid r2
          have hgi : ¬ (g.size : Int) = 2 := by omega
          clear r1 r2 hb2 hgd
          go_wp2_with (first | (go_at_call 69; refine (HS.out _).mono ?_; rintro e w1 ⟨rfl, rfl⟩) | (go_at_call 58; refine (HB.out _).mono ?_; rintro e w2 ⟨rfl, hb2⟩))
          go_ret2
          exact ⟨by rw [HR1.out, HR2.out]; rfl, hb2⟩
set_option maxRecDepth 100000 in
set_option maxHeartbeats 2000000 in
theorem rat_3 (s : ByteArray) (i : Nat) (w : World) (hi : i < s.size) (hs : s.size ≤ 1099511627776) (h1 : 224 ≤ s[i].toNat) (h2 : s[i].toNat < 240) (m val : Nat → Int) (R1 R2 : Int)
    (M : ∀ k : Nat, ∀ w : World, Calls Tryd.prog 81 #[.string s, .int .i64 ((i : Int) + (k : Int))] w fun e w' => e = .returned (.int .i32 (m k)) ∧ w = w')
    (O : AtOut 3 ((s[i].toNat : Int) - 224) m val R1 R2) :
    Calls Tryd.prog 59 #[.string s, .int .i64 i] w fun e w' => e = .returned (.tuple #[.int .i32 R1, .int .i64 R2]) ∧ Ext w w' := by
  have c0 : ¬ (s[i].toNat : Int) < 128 := by omega
  have c1 : (192 : Int) ≤ (s[i].toNat : Int) := by omega
  have c2 : ¬ (s[i].toNat : Int) < 224 := by omega
  have c3 : (224 : Int) ≤ (s[i].toNat : Int) := by omega
  have c4 : (s[i].toNat : Int) < 240 := by omega
  have HM := Lib.hid M
  have HO := Lib.hid O
  clear M O
  go_enter Tryd.func59, Tryd.ntmps59
  go_wp2
  go_loop [8, 9] (fun p k => ∃ q : Nat, 1 ≤ q ∧ q ≤ 3 ∧ k = .int .i64 q ∧ p = .int .i32 (val q) ∧ Hid (∀ j, 1 ≤ j → j < q → 0 ≤ m j)) (fun _ k => 3 - (intOf k).toNat)
  case atStart => exact ⟨1, by omega, by omega, rfl, by rw [HO.out.v1], fun j a b => by omega⟩
  case round =>
    obtain ⟨q, hq1, hq2, rfl, rfl, HJ⟩ := hrel
    have hbd := HO.out.bd q hq1 hq2 HJ.out
    by_cases hlt : q < 3
    · have hml := HO.out.ml q
      have hvs := HO.out.vs q hq1
      have hneg := HO.out.neg q hq1 hlt HJ.out
      have HMQ := Lib.hid (HM.out q)
      have HVS := Lib.hid hvs
      clear hvs
      generalize hmq : m q = z at hml hneg HMQ HVS
      have HZ := Lib.hid hmq
      clear hmq
      by_cases hz : z < 0
      · obtain ⟨r1, r2⟩ := hneg hz
        have HR1 := Lib.hid r1
        have HR2 := Lib.hid r2
        clear r1 r2 hneg HVS HO HM
        go_wp2_with (go_at_call 81; refine (HMQ.out _).mono ?_; rintro e w1 ⟨rfl, rfl⟩)
        go_ret2
        exact ⟨by rw [HR1.out, HR2.out]; rfl, Ext.refl _⟩
      · clear hneg
        generalize val q = y at hbd HVS
        go_wp2_with (go_at_call 81; refine (HMQ.out _).mono ?_; rintro e w1 ⟨rfl, rfl⟩)
        go_round
        case rel =>
          refine ⟨q + 1, by omega, by omega, by go_num, by rw [HVS.out], ?_⟩
          intro j a b
          by_cases e : j = q
          · subst e; rw [HZ.out]; omega
          · exact HJ.out j a (by omega)
        case measure => simp [intOf]; omega
    · have hqn : q = 3 := by omega
      subst hqn
      have hb1 := HO.out.bad1 HJ.out
      have hb2 := HO.out.bad2 HJ.out
      have hgd := HO.out.good HJ.out
      clear HO HM HJ
      generalize val 3 = y at hbd hb1 hb2 hgd
      have HS := Lib.hid (fun w => rscalar_any y w)
      cases hy : isSign y
      · obtain ⟨r1, r2⟩ := hb1 hy
        rw [hy] at HS
        have HR1 := Lib.hid r1
        have HR2 := Lib.hid r2
        clear r1 r2 hb1 hb2 hgd hy
        go_wp2_with (go_at_call 69; refine (HS.out _).mono ?_; rintro e w1 ⟨rfl, rfl⟩)
        go_ret2
        exact ⟨by rw [HR1.out, HR2.out]; rfl, Ext.refl _⟩
      · have HB := Lib.hid (fun w => rbytes_any y w hy)
        have hsz := sign_size y
        have hb2 := hb2 hy
        have hgd := hgd hy
        rw [hy] at HS
        clear hb1 hy
        generalize signText y = g at HB hsz hb2 hgd
        by_cases hg : g.size = 3
        · obtain ⟨r1, r2⟩ := hgd hg
          have HR1 := Lib.hid r1
          have HR2 := Lib.hid r2
          have hgi : (g.size : Int) = 3 := by omega
          clear r1 r2 hb2 hgd
          go_wp2_with (first | (go_at_call 69; refine (HS.out _).mono ?_; rintro e w1 ⟨rfl, rfl⟩) | (go_at_call 58; refine (HB.out _).mono ?_; rintro e w2 ⟨rfl, hb2⟩))
          go_ret2
          exact ⟨by rw [HR1.out, HR2.out]; rfl, hb2⟩
        · obtain ⟨r1, r2⟩ := hb2 hg
          have HR1 := Lib.hid r1
          have HR2 := Lib.hid r2
          have hgi : ¬ (g.size : Int) = 3 := by omega
          clear r1 r2 hb2 hgd
          go_wp2_with (first | (go_at_call 69; refine (HS.out _).mono ?_; rintro e w1 ⟨rfl, rfl⟩) | (go_at_call 58; refine (HB.out _).mono ?_; rintro e w2 ⟨rfl, hb2⟩))
          go_ret2
          exact ⟨by rw [HR1.out, HR2.out]; rfl, hb2⟩
set_option maxRecDepth 100000 in
set_option maxHeartbeats 2000000 in
theorem rat_4 (s : ByteArray) (i : Nat) (w : World) (hi : i < s.size) (hs : s.size ≤ 1099511627776) (h1 : 240 ≤ s[i].toNat) (h2 : s[i].toNat < 248) (m val : Nat → Int) (R1 R2 : Int)
    (M : ∀ k : Nat, ∀ w : World, Calls Tryd.prog 81 #[.string s, .int .i64 ((i : Int) + (k : Int))] w fun e w' => e = .returned (.int .i32 (m k)) ∧ w = w')
    (O : AtOut 4 ((s[i].toNat : Int) - 240) m val R1 R2) :
    Calls Tryd.prog 59 #[.string s, .int .i64 i] w fun e w' => e = .returned (.tuple #[.int .i32 R1, .int .i64 R2]) ∧ Ext w w' := by
  have c0 : ¬ (s[i].toNat : Int) < 128 := by omega
  have c1 : (192 : Int) ≤ (s[i].toNat : Int) := by omega
  have c2 : ¬ (s[i].toNat : Int) < 224 := by omega
  have c3 : (224 : Int) ≤ (s[i].toNat : Int) := by omega
  have c4 : ¬ (s[i].toNat : Int) < 240 := by omega
  have c5 : (240 : Int) ≤ (s[i].toNat : Int) := by omega
  have c6 : (s[i].toNat : Int) < 248 := by omega
  have HM := Lib.hid M
  have HO := Lib.hid O
  clear M O
  go_enter Tryd.func59, Tryd.ntmps59
  go_wp2
  go_loop [8, 9] (fun p k => ∃ q : Nat, 1 ≤ q ∧ q ≤ 4 ∧ k = .int .i64 q ∧ p = .int .i32 (val q) ∧ Hid (∀ j, 1 ≤ j → j < q → 0 ≤ m j)) (fun _ k => 4 - (intOf k).toNat)
  case atStart => exact ⟨1, by omega, by omega, rfl, by rw [HO.out.v1], fun j a b => by omega⟩
  case round =>
    obtain ⟨q, hq1, hq2, rfl, rfl, HJ⟩ := hrel
    have hbd := HO.out.bd q hq1 hq2 HJ.out
    by_cases hlt : q < 4
    · have hml := HO.out.ml q
      have hvs := HO.out.vs q hq1
      have hneg := HO.out.neg q hq1 hlt HJ.out
      have HMQ := Lib.hid (HM.out q)
      have HVS := Lib.hid hvs
      clear hvs
      generalize hmq : m q = z at hml hneg HMQ HVS
      have HZ := Lib.hid hmq
      clear hmq
      by_cases hz : z < 0
      · obtain ⟨r1, r2⟩ := hneg hz
        have HR1 := Lib.hid r1
        have HR2 := Lib.hid r2
        clear r1 r2 hneg HVS HO HM
        go_wp2_with (go_at_call 81; refine (HMQ.out _).mono ?_; rintro e w1 ⟨rfl, rfl⟩)
        go_ret2
        exact ⟨by rw [HR1.out, HR2.out]; rfl, Ext.refl _⟩
      · clear hneg
        generalize val q = y at hbd HVS
        go_wp2_with (go_at_call 81; refine (HMQ.out _).mono ?_; rintro e w1 ⟨rfl, rfl⟩)
        go_round
        case rel =>
          refine ⟨q + 1, by omega, by omega, by go_num, by rw [HVS.out], ?_⟩
          intro j a b
          by_cases e : j = q
          · subst e; rw [HZ.out]; omega
          · exact HJ.out j a (by omega)
        case measure => simp [intOf]; omega
    · have hqn : q = 4 := by omega
      subst hqn
      have hb1 := HO.out.bad1 HJ.out
      have hb2 := HO.out.bad2 HJ.out
      have hgd := HO.out.good HJ.out
      clear HO HM HJ
      generalize val 4 = y at hbd hb1 hb2 hgd
      have HS := Lib.hid (fun w => rscalar_any y w)
      cases hy : isSign y
      · obtain ⟨r1, r2⟩ := hb1 hy
        rw [hy] at HS
        have HR1 := Lib.hid r1
        have HR2 := Lib.hid r2
        clear r1 r2 hb1 hb2 hgd hy
        go_wp2_with (go_at_call 69; refine (HS.out _).mono ?_; rintro e w1 ⟨rfl, rfl⟩)
        go_ret2
        exact ⟨by rw [HR1.out, HR2.out]; rfl, Ext.refl _⟩
      · have HB := Lib.hid (fun w => rbytes_any y w hy)
        have hsz := sign_size y
        have hb2 := hb2 hy
        have hgd := hgd hy
        rw [hy] at HS
        clear hb1 hy
        generalize signText y = g at HB hsz hb2 hgd
        by_cases hg : g.size = 4
        · obtain ⟨r1, r2⟩ := hgd hg
          have HR1 := Lib.hid r1
          have HR2 := Lib.hid r2
          have hgi : (g.size : Int) = 4 := by omega
          clear r1 r2 hb2 hgd
          go_wp2_with (first | (go_at_call 69; refine (HS.out _).mono ?_; rintro e w1 ⟨rfl, rfl⟩) | (go_at_call 58; refine (HB.out _).mono ?_; rintro e w2 ⟨rfl, hb2⟩))
          go_ret2
          exact ⟨by rw [HR1.out, HR2.out]; rfl, hb2⟩
        · obtain ⟨r1, r2⟩ := hb2 hg
          have HR1 := Lib.hid r1
          have HR2 := Lib.hid r2
          have hgi : ¬ (g.size : Int) = 4 := by omega
          clear r1 r2 hb2 hgd
          go_wp2_with (first | (go_at_call 69; refine (HS.out _).mono ?_; rintro e w1 ⟨rfl, rfl⟩) | (go_at_call 58; refine (HB.out _).mono ?_; rintro e w2 ⟨rfl, hb2⟩))
          go_ret2
          exact ⟨by rw [HR1.out, HR2.out]; rfl, hb2⟩
end Go.Proofs.YtealeedbkjiabaaDoor
