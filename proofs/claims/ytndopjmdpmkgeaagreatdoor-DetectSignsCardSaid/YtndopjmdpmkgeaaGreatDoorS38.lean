/-
  What the proof of this claim leans on (S38).
-/
import Derived.Test.YtndopjmdpmkgeaaGreatDoorS1
import Derived.Test.YtndopjmdpmkgeaaGreatDoorS3
import Derived.Test.YtndopjmdpmkgeaaGreatDoorS6
import Derived.Test.YtndopjmdpmkgeaaGreatDoorS25
import Derived.BigQuiet
import Derived.Deep.QuietTactic
import Derived.Deep.RegionWith
import Derived.RegionTactic
import Derived.WalkMore
namespace Go.Proofs.YtndopjmdpmkgeaaGreatDoor
open Go Go.ChangeShapes Go.WideShapes Go.ChangeAt Go.RowKit
set_option linter.unusedSimpArgs false
set_option linter.unusedVariables false

set_option maxRecDepth 100000 in
set_option maxHeartbeats 1000000 in
/-- The looked-for sign's last byte is at the place where the search begins, or nowhere behind. -/
theorem idx_no (s : ByteArray) (x : UInt8) (hn2 : 2 ≤ s.size) (hn3 : s.size ≤ 1000) (hx : ∀ h : 1 < s.size, s[1]'h = x) (hne : x ≠ 138)
    (hi : Lib.indexByte (s.extract 2 s.size).data.toList 138 = -1) (w : World) :
    Calls Tryz.prog 185 #[.string s, .int .i32 202] w fun e w' => e = .returned (.int .i64 (-1)) ∧ Ext w w' := by
  have HV := Lib.hid (fun w => Tryz.utf8_ValidRune 202 w)
  rw [show Lib.validRune 202 = true by decide] at HV
  have HB := Lib.hid (fun w => Tryz.strings_IndexByte (s.extract 2 s.size) 138 w)
  rw [show (Int.toNat 138).toUInt8 = 138 from rfl, hi] at HB
  have HX := Lib.hid hx
  have hn1 : (1 : Int) < s.size := by omega
  have hn4 : (s.size : Int) ≤ 1000 := by omega
  have HI := Lib.hid hi
  clear hx hi hn2 hn3
  go_enter Tryz.func185, Tryz.ntmps185
  go_wp2_with (go_at_call 209; refine (HV.out _).mono ?_; rintro e w1 ⟨rfl, rfl⟩)
  have he : Utf8.encode 202 = ⟨#[195, 138]⟩ := by decide +kernel
  go_step3
  go_wp2
  go_loopw [9, 10] (fun v u wr => v = .int .i64 1 ∧ u = .int .i64 0 ∧ Ext w1 wr) (fun _ _ _ => 0)
  case atStart => exact ⟨rfl, rfl, Ext.refl _⟩
  case round =>
    obtain ⟨rfl, rfl, hx⟩ := hrel
    clear HV he
    go_wp2
    go_step3
    go_wp2
    go_quiet (fail)
    have h1s : 1 < s.size := by omega
    have hq : (((s[1]'h1s).toNat : Int) != (((⟨#[195, 138]⟩ : ByteArray)[1]'(by decide)).toNat : Int)) = true := by
      rw [HX.out h1s, show (⟨#[195, 138]⟩ : ByteArray)[1]'(by decide) = 138 from rfl]
      simp only [bne_iff_ne, ne_eq]
      intro e
      apply hne
      have e2 : x.toNat = (138 : UInt8).toNat := by omega
      exact UInt8.toNat_inj.1 e2
    have hx2 := hx.drewN nq
    generalize wr.drewN nq = wq at hx2 ⊢
    go_wp2
    have hsz2 : (2 : Int) ≤ s.size := by omega
    have hw2 : IntKind.i64.wrap 2 = 2 := by decide
    go_quiet (first | (go_at_call 208; refine (HB.out _).mono ?_; rintro e w2 ⟨rfl, rfl⟩; exact ⟨rfl, _, rfl⟩))
    obtain ⟨wz, hwz⟩ : ∃ wz, wz = wq.drewN nq := ⟨_, rfl⟩
    have hx3 := hx2.drewN nq
    rw [← hwz] at hx3 ⊢
    clear hwz
    go_wp2
    simp (config := { zetaDelta := true }) only [Exit.noGoto, Exit.inBlock, Exit.then]
    go_ret
    exact ⟨rfl, hx3⟩
set_option maxRecDepth 100000 in
set_option maxHeartbeats 1000000 in
/-- The looked-for sign stands at the fourth byte. -/
theorem idx_yes (s : ByteArray) (x : UInt8) (hn2 : 5 ≤ s.size) (hn3 : s.size ≤ 1000) (hx : ∀ h : 1 < s.size, s[1]'h = x) (hne : x ≠ 138)
    (hi : Lib.indexByte (s.extract 2 s.size).data.toList 138 = 2) (hy : ∀ h : 3 < s.size, s[3]'h = 195) (w : World) :
    Calls Tryz.prog 185 #[.string s, .int .i32 202] w fun e w' => e = .returned (.int .i64 3) ∧ Ext w w' := by
  have HV := Lib.hid (fun w => Tryz.utf8_ValidRune 202 w)
  rw [show Lib.validRune 202 = true by decide] at HV
  have HB := Lib.hid (fun w => Tryz.strings_IndexByte (s.extract 2 s.size) 138 w)
  rw [show (Int.toNat 138).toUInt8 = 138 from rfl, hi] at HB
  have HX := Lib.hid hx
  have HY := Lib.hid hy
  have hn1 : (1 : Int) < s.size := by omega
  have hn6 : (4 : Int) < s.size := by omega
  have hn4 : (s.size : Int) ≤ 1000 := by omega
  have HI := Lib.hid hi
  clear hx hi hy hn2 hn3
  go_enter Tryz.func185, Tryz.ntmps185
  go_wp2_with (go_at_call 209; refine (HV.out _).mono ?_; rintro e w1 ⟨rfl, rfl⟩)
  have he : Utf8.encode 202 = ⟨#[195, 138]⟩ := by decide +kernel
  go_step3
  go_wp2
  go_loopw [9, 10] (fun v u wr => v = .int .i64 1 ∧ u = .int .i64 0 ∧ Ext w1 wr) (fun _ _ _ => 0)
  case atStart => exact ⟨rfl, rfl, Ext.refl _⟩
  case round =>
    obtain ⟨rfl, rfl, hx⟩ := hrel
    clear HV he
    go_wp2
    go_step3
    go_wp2
    go_quiet (fail)
    have h1s : 1 < s.size := by omega
    have hq : (((s[1]'h1s).toNat : Int) != (((⟨#[195, 138]⟩ : ByteArray)[1]'(by decide)).toNat : Int)) = true := by
      rw [HX.out h1s, show (⟨#[195, 138]⟩ : ByteArray)[1]'(by decide) = 138 from rfl]
      simp only [bne_iff_ne, ne_eq]
      intro e
      apply hne
      have e2 : x.toNat = (138 : UInt8).toNat := by omega
      exact UInt8.toNat_inj.1 e2
    have hx2 := hx.drewN nq
    generalize wr.drewN nq = wq at hx2 ⊢
    go_wp2
    have hsz2 : (2 : Int) ≤ s.size := by omega
    have hw2 : IntKind.i64.wrap 2 = 2 := by decide
    go_quiet (first | (go_at_call 208; refine (HB.out _).mono ?_; rintro e w2 ⟨rfl, rfl⟩; exact ⟨rfl, _, rfl⟩))
    obtain ⟨wz, hwz⟩ : ∃ wz, wz = wq.drewN nq := ⟨_, rfl⟩
    have hx3 := hx2.drewN nq
    rw [← hwz] at hx3 ⊢
    clear hwz
    go_wp2
    clear HB HX HI hx hx2 hq
    go_loopw [12] (fun v wi => ∃ j : Nat, 1 ≤ j ∧ j ≤ 2 ∧ v = .int .i64 j ∧ Ext w1 wi) (fun v _ => 2 - (intOf v).toNat)
    case atStart => exact ⟨1, by omega, by omega, rfl, hx3⟩
    case round =>
      obtain ⟨j, hj1, hj2, rfl, hxi⟩ := hrel
      clear hx3
      by_cases hlt : j = 1
      · subst hlt
        go_wp2
        have hw3 : IntKind.i64.wrap 3 = 3 := by decide
        have hw0 : IntKind.i64.wrap 0 = 0 := by decide
        have h3s : 3 < s.size := by omega
        have hn3 : (3 : Int) < s.size := by omega
        go_quiet (fail)
        have hq2 : (((s[3]'h3s).toNat : Int) != (((⟨#[195, 138]⟩ : ByteArray)[0]'(by decide)).toNat : Int)) = false := by
          rw [HY.out h3s, show (⟨#[195, 138]⟩ : ByteArray)[0]'(by decide) = 195 from rfl]
          rfl
        have hx4 := hxi.drewN nq
        generalize wr.drewN nq = wk at hx4 ⊢
        go_wp2
        go_roundw
        case rel => exact ⟨2, by omega, by omega, rfl, hx4⟩
        case measure => simp [intOf]
      · have : j = 2 := by omega
        subst this
        go_wp2
        simp (config := { zetaDelta := true }) only [Exit.noGoto, Exit.inBlock, Exit.then]
        go_ret
        exact ⟨rfl, hxi⟩
theorem no_at (i : Nat) (hi : i < 2) (w : World) : Calls Tryz.prog 185 #[.string (txt (bgS i)), .int .i32 202] w fun e w' => e = .returned (.int .i64 (-1)) ∧ Ext w w' := by
  have : i = 0 ∨ i = 1 := by omega
  rcases this with rfl | rfl
  · exact idx_no _ 128 (by decide +kernel) (by decide +kernel) (fun h => by kernel_rfl) (by decide) (by decide +kernel) w
  · exact idx_no _ 186 (by decide +kernel) (by decide +kernel) (fun h => by kernel_rfl) (by decide) (by decide +kernel) w
theorem yes_at (w : World) : Calls Tryz.prog 185 #[.string (txt (bgS 2)), .int .i32 202] w fun e w' => e = .returned (.int .i64 3) ∧ Ext w w' :=
  idx_yes _ 187 (by decide +kernel) (by decide +kernel) (fun h => by kernel_rfl) (by decide) (by decide +kernel) (fun h => by kernel_rfl) w
theorem count_at (w : World) : Calls Tryz.prog 170 #[.string ((txt (bgS 2)).extract 0 3)] w fun e w' => e = .returned (.int .i64 1) ∧ Ext w w' := by
  have e1 : (Lib.runeCount ((txt (bgS 2)).extract 0 3) : Int) = 1 := by decide +kernel
  have hs : ((txt (bgS 2)).extract 0 3).size < 9223372036854775807 := by decide +kernel
  refine (Tryz.utf8_RuneCountInString _ w hs).mono ?_
  rintro e w' ⟨h1, pos, rfl⟩
  exact ⟨by rw [h1, e1], (Ext.refl w).alloc _⟩
set_option maxRecDepth 100000 in
set_option maxHeartbeats 1000000 in
theorem code_202 (w : World) : Calls Tryz.prog 151 #[.int .i32 202] w fun e w' => e = .returned (.tuple #[.int .i64 34918, .bool true]) ∧ Ext w w' := by
  have HS := Lib.hid (fun w => blists w)
  have HNo := Lib.hid no_at
  have HYes := Lib.hid yes_at
  have HCnt := Lib.hid count_at
  go_enter Tryz.func151, Tryz.ntmps151
  go_wp2_with (go_at_call 186; refine (HS.out _).mono ?_; rintro e w1 ⟨rfl, hb1⟩)
  obtain ⟨C, hC⟩ : ∃ C, C = bgC := ⟨_, rfl⟩
  rw [← hC]
  have HX := Lib.hid (fun i hi w => at_big i hi w)
  rw [← hC] at HX
  clear hC HS
  go_loopw [8] (fun v wr => ∃ i : Nat, i ≤ 2 ∧ v = .int .i64 i ∧ Ext w wr) (fun v _ => 14 - (intOf v).toNat)
  case atStart => exact ⟨0, by omega, rfl, hb1⟩
  case round =>
    obtain ⟨i, hi, rfl, hx⟩ := hrel
    have hli : (i : Int) < 14 := by omega
    have hix := fun w2 => HX.out i (by omega) w2
    clear hb1
    by_cases hlt : i < 2
    · have HI := Lib.hid (HNo.out i hlt)
      generalize txt (bgS i) = s at hix HI
      generalize bgF i = f at hix
      have hBn := heap_alloc_new wr (.cells #[.int .i64 (f : Int), .int .i32 0, .int .i64 0, .string s] 105)
      have hxn := hx.alloc (.cells #[.int .i64 (f : Int), .int .i32 0, .int .i64 0, .string s] 105)
      obtain ⟨⟨d0, d1, d2, d3⟩, _⟩ := facts4 hBn
      clear HNo HYes HCnt HX hBn
      go_wp2_with (go_at_call 185; refine (HI.out _).mono ?_; rintro e w3 ⟨rfl, hb3⟩)
      go_roundw
      case rel => exact ⟨i + 1, by omega, by go_num, hxn.trans hb3⟩
      case measure => simp [intOf]; omega
    · have hie : i = 2 := by omega
      have hf : bgF i = 34917 := by rw [hie]; decide
      have HYi : Hid (∀ w, Calls Tryz.prog 185 #[.string (txt (bgS i)), .int .i32 202] w fun e w' => e = .returned (.int .i64 3) ∧ Ext w w') := by rw [hie]; exact HYes
      have HCi : Hid (∀ w, Calls Tryz.prog 170 #[.string ((txt (bgS i)).extract 0 3)] w fun e w' => e = .returned (.int .i64 1) ∧ Ext w w') := by rw [hie]; exact HCnt
      have hsz : 3 ≤ (txt (bgS i)).size ∧ (txt (bgS i)).size ≤ 1000 := by rw [hie]; decide +kernel
      generalize txt (bgS i) = s at hix HYi HCi hsz
      generalize bgF i = f at hix hf
      have HF := Lib.hid hf
      have hf2 : (f : Int) ≤ 42401 := by omega
      have hs3 : (3 : Int) ≤ s.size := by omega
      have hs4 : (s.size : Int) ≤ 1000 := by omega
      have hBn := heap_alloc_new wr (.cells #[.int .i64 (f : Int), .int .i32 0, .int .i64 0, .string s] 105)
      have hxn := hx.alloc (.cells #[.int .i64 (f : Int), .int .i32 0, .int .i64 0, .string s] 105)
      obtain ⟨⟨d0, d1, d2, d3⟩, _⟩ := facts4 hBn
      have HBn := Lib.hid hBn
      clear HNo HX hBn hf hsz hlt hie HYes HCnt
      go_wp2_with (go_at_call 185; refine (HYi.out _).mono ?_; rintro e w3 ⟨rfl, hb3⟩; have hB3 := (hb3.block _ (by simp)).trans HBn.out; clear d0 d1 d2 d3; obtain ⟨⟨d0, d1, d2, d3⟩, _⟩ := facts4 hB3)
      have hx3 := hxn.trans hb3
      have HB3 := Lib.hid hB3
      have HLT := Lib.hid (lt_of_block hB3)
      clear hB3 hxn hb3
      have hw3 : IntKind.i64.wrap 3 = 3 := by decide
      go_region_with (go_at_call 170; refine (HCi.out _).mono ?_; rintro e w4 ⟨rfl, hb4⟩; have hB4 := (hb4.block wr.heap.size HLT.out).trans HB3.out; obtain ⟨⟨f0, f1, f2, f3⟩, _⟩ := facts4 hB4; clear hB4)
      all_goals
        have e5 : (f : Int) + 1 = 34918 := by have := HF.out; omega
        go_wp2
        go_ret2
        refine ⟨by first | rfl | (rw [e5]; rfl), ?_⟩
        first | exact hx3.trans hb4 | exact hx3.drew.trans hb4 | exact (hx3.drewN _).trans hb4
end Go.Proofs.YtndopjmdpmkgeaaGreatDoor

namespace Go.Proofs.YtndopjmdpmkgeaaGreatDoor
open Go Go.ChangeShapes Go.WideShapes Go.ChangeAt Go.RowKit
set_option linter.unusedSimpArgs false
set_option linter.unusedVariables false

theorem twin_eq (i : Nat) (hi : i < 4) (w : World) : (Op.equalIn 10000 170 (.agg #[.int .i32 (twP i), .int .i32 (twQ i)]) (.agg #[.int .i32 202, .int .i32 65])).run Tryz.prog w = .ok false w := by
  have : i = 0 ∨ i = 1 ∨ i = 2 ∨ i = 3 := by omega
  rcases this with rfl | rfl | rfl | rfl
  all_goals
    clear hi
    show _ = _
    kernel_rfl
set_option maxRecDepth 100000 in
set_option maxHeartbeats 1000000 in
theorem twin_none (a : Nat) (w : World) (hT : Tab8 w) (hr : w.cell? ⟨a, 0, none⟩ = some (.int .i32 202) ∧ w.cell? ⟨a, 1, none⟩ = some (.int .i32 65)) :
    Calls Tryz.prog 150 #[.slice (some ⟨a, 0, none⟩) 2 2] w fun e w' => e = .returned (.tuple #[.int .i64 0, .bool false]) ∧ Ext w w' := by
  obtain ⟨r0, r1⟩ := hr
  have HL : Hid (∀ w2, Ext w w2 → (loadVar 173 ⟨3, 0, none⟩).run Tryz.prog w2 = .ok (.agg twL.toArray) w2) := fun w2 x => load_twins_var w2 (hT.ext x)
  obtain ⟨C, hC⟩ : ∃ C, C = twL.toArray := ⟨_, rfl⟩
  have HX := Lib.hid (fun i hi w => at_twin i hi w)
  rw [← hC] at HX HL
  clear hC hT
  have hxa := (Ext.refl w).alloc (.cells #[.int .i32 0, .int .i32 0] 170)
  have s0 := (World.cell?_of_block (hxa.block _ (World.block_lt_of_cell? w _ r0))).trans r0
  have s1 := (World.cell?_of_block (hxa.block _ (World.block_lt_of_cell? w _ r1))).trans r1
  have hBa := heap_alloc_new w (.cells #[.int .i32 0, .int .i32 0] 170)
  obtain ⟨⟨c0, c1⟩, z0, z1⟩ := facts2 hBa
  have HBa := Lib.hid hBa
  clear hBa
  go_enter Tryz.func150, Tryz.ntmps150
  go_wp2
  go_region
  have hxd := ((Ext.refl w).alloc (.cells #[.int .i32 202, .int .i32 65] 170)).drew
  have hBd : ((w.alloc (.cells #[.int .i32 202, .int .i32 65] 170)).drew).heap[w.heap.size]? = some (.cells #[.int .i32 202, .int .i32 65] 170 (0, 0)) := heap_alloc_new w _
  obtain ⟨g, hg⟩ : ∃ g, g = w.heap.size := ⟨_, rfl⟩
  have hgl : w.heap.size ≤ g := by omega
  rw [← hg] at hBd ⊢
  generalize (w.alloc (.cells #[.int .i32 202, .int .i32 65] 170)).drew = wd at hxd hBd ⊢
  clear s0 s1 c0 c1 z0 z1 HBa hxa hg r0 r1
  go_wp2_with (refine wpList_load_known rfl 173 _ rfl 3 (.agg C) rfl (HL.out _ hxd) ?_)
  clear HL
  go_loopw [18] (fun v wr => ∃ i : Nat, i ≤ 4 ∧ v = .int .i64 i ∧ wr.heap[g]? = some (.cells #[.int .i32 202, .int .i32 65] 170 (0, 0)) ∧ Ext w wr) (fun v _ => 4 - (intOf v).toNat)
  case atStart => exact ⟨0, by omega, rfl, hBd, hxd⟩
  case round =>
    obtain ⟨i, hi, rfl, hB, hx⟩ := hrel
    clear hBd hxd
    by_cases hlt : i < 4
    · have hli : (i : Int) < 4 := by omega
      have hix := fun w2 => HX.out i hlt w2
      obtain ⟨b1, b2, b3, b4, b5, b6⟩ := tw_bd i hlt
      have hqe := fun w2 => twin_eq i hlt w2
      generalize twF i = f at hix b1 b2
      generalize twP i = tp at hix hqe b3 b4
      generalize twQ i = tq at hix hqe b5 b6
      have hBn := heap_alloc_new wr (.cells #[.int .i64 (f : Int), .int .i32 (tp : Int), .int .i32 (tq : Int)] 172)
      have hxn := hx.alloc (.cells #[.int .i64 (f : Int), .int .i32 (tp : Int), .int .i32 (tq : Int)] 172)
      have hBk := (((Ext.refl wr).alloc (.cells #[.int .i64 (f : Int), .int .i32 (tp : Int), .int .i32 (tq : Int)] 172)).block g (lt_of_block hB)).trans hB
      obtain ⟨⟨d0, d1, d2⟩, _⟩ := facts3 hBn
      obtain ⟨⟨e0, e1⟩, _⟩ := facts2 hBk
      clear hBn HX
      go_wp2
      go_roundw
      case rel => exact ⟨i + 1, by omega, by go_num, hBk, hxn⟩
      case measure => simp [intOf]; omega
    · have hie : i = 4 := by omega
      subst hie
      clear HX hB
      go_wp2
      go_ret2
      exact ⟨rfl, hx⟩
theorem code_bytes : twoB 34918 = ⟨#[136, 102]⟩ := by decide +kernel
set_option maxRecDepth 100000 in
set_option maxHeartbeats 1000000 in
theorem bytes_ex (a : Nat) (w : World) (hT : Tab8 w) (hr : w.cell? ⟨a, 0, none⟩ = some (.int .i32 202) ∧ w.cell? ⟨a, 1, none⟩ = some (.int .i32 65)) :
    Calls Tryz.prog 112 #[.slice (some ⟨a, 0, none⟩) 2 2] w fun e w' => e = .returned (.tuple #[.string ⟨#[136, 102]⟩, .int .i64 1]) ∧ Ext w w' := by
  have HTw := Lib.hid (twin_none a w hT hr)
  have HCo := Lib.hid (fun w => code_202 w)
  have HBi := Lib.hid (fun w => big_two 34918 w (by decide))
  rw [code_bytes] at HBi
  obtain ⟨r0, r1⟩ := hr
  have HR0 := Lib.hid r0
  have hlt := World.block_lt_of_cell? w _ r0
  have HLT := Lib.hid hlt
  clear hT r0 r1 hlt
  go_enter Tryz.func112, Tryz.ntmps112
  go_wp2_with (first
    | (go_at_call 150; refine HTw.out.mono ?_; rintro e w1 ⟨rfl, hb1⟩; have r0 := (World.cell?_of_block (hb1.block _ HLT.out)).trans HR0.out)
    | (go_at_call 151; refine (HCo.out _).mono ?_; rintro e w2 ⟨rfl, hb2⟩)
    | (go_at_call 139; refine (HBi.out _).mono ?_; rintro e w3 ⟨rfl, hb3⟩))
  go_ret2
  exact ⟨rfl, (hb1.trans hb2).trans hb3⟩
theorem ex_bytes8 (w : World) (hT : Tab8 w) (t : TypeId) : Calls Tryz.prog 112 #[.slice (some ⟨w.heap.size, 0, none⟩) 2 2] (w.alloc (.cells #[.int .i32 202, .int .i32 65] t)) fun e w' => e = .returned (.tuple #[.string ⟨#[136, 102]⟩, .int .i64 1]) ∧ Ext w w' := by
  have hx := (Ext.refl w).alloc (.cells #[.int .i32 202, .int .i32 65] t)
  have h := facts2 (heap_alloc_new w (.cells #[.int .i32 202, .int .i32 65] t))
  exact (bytes_ex w.heap.size _ (hT.ext hx) h.1).mono fun e w' ⟨he, hk⟩ => ⟨he, hx.trans hk⟩
theorem ex_signs8 (w : World) (hT : Tab8 w) : Calls Tryz.prog 111 #[.int .u8 136, .int .u8 98] w fun e w' => e = .returned (.tuple #[.string ⟨#[195, 138, 204, 132]⟩, .bool true]) ∧ Ext w w' := by
  have h := big_signs 136 98 w hT
  have e1 : sigT (136 : UInt8).toNat (98 : UInt8).toNat = ⟨#[195, 138, 204, 132]⟩ := by decide +kernel
  have e2 : decide (signsB (136 : UInt8).toNat (98 : UInt8).toNat ≠ []) = true := by decide +kernel
  rw [e1, e2] at h
  exact h
set_option maxRecDepth 100000 in
theorem awake8_any (w : World) (hT : Tab8 w) : Calls Tryz.prog 64 #[] w fun e w' => e = .returned (.bool true) ∧ Ext w w' := by
  have HT := Lib.hid hT
  clear hT
  go_enter Tryz.func64, Tryz.ntmps64
  go_wp2_with (first
    | (go_at_call 111; refine (ex_signs8 _ HT.out).mono ?_; rintro e w1 ⟨rfl, hb1⟩)
    | (go_at_call 112; refine (ex_bytes8 _ (HT.out.ext hb1) _).mono ?_; rintro e w2 ⟨rfl, hb2⟩))
  go_ret
  exact ⟨rfl, hb1.trans hb2⟩
end Go.Proofs.YtndopjmdpmkgeaaGreatDoor

