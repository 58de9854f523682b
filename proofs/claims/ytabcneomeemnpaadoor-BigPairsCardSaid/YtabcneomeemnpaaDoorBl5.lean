/-
  Layer 8, the code: the document's example, whole.
-/
import Derived.Test.YtabcneomeemnpaaDoorBl4
import Derived.Test.YtabcneomeemnpaaDoorLit2
import Derived.Test.YtabcneomeemnpaaDoorBg5
namespace Go.Proofs.YtabcneomeemnpaaDoor
open Go Go.ChangeShapes Go.WideShapes Go.ChangeAt Go.RowKit
set_option linter.unusedSimpArgs false
set_option linter.unusedVariables false

theorem twin_eq (i : Nat) (hi : i < 4) (w : World) : (Op.equalIn 10000 43 (.agg #[.int .i32 (twP i), .int .i32 (twQ i)]) (.agg #[.int .i32 202, .int .i32 65])).run Tryd.prog w = .ok false w := by
  have : i = 0 ∨ i = 1 ∨ i = 2 ∨ i = 3 := by omega
  rcases this with rfl | rfl | rfl | rfl
  all_goals
    clear hi
    show _ = _
    kernel_rfl
set_option maxRecDepth 100000 in
set_option maxHeartbeats 1000000 in
theorem twin_none (a : Nat) (w : World) (hT : Tab8 w) (hr : w.cell? ⟨a, 0, none⟩ = some (.int .i32 202) ∧ w.cell? ⟨a, 1, none⟩ = some (.int .i32 65)) :
    Calls Tryd.prog 21 #[.slice (some ⟨a, 0, none⟩) 2 2] w fun e w' => e = .returned (.tuple #[.int .i64 0, .bool false]) ∧ Ext w w' := by
  obtain ⟨r0, r1⟩ := hr
  have HL : Hid (∀ w2, Ext w w2 → (loadVar 46 ⟨0, 0, none⟩).run Tryd.prog w2 = .ok (.agg twL.toArray) w2) := fun w2 x => load_twins_var w2 (hT.ext x)
  obtain ⟨C, hC⟩ : ∃ C, C = twL.toArray := ⟨_, rfl⟩
  have HX := Lib.hid (fun i hi w => at_twin i hi w)
  rw [← hC] at HX HL
  clear hC hT
  have hxa := (Ext.refl w).alloc (.cells #[.int .i32 0, .int .i32 0] 43)
  have s0 := (World.cell?_of_block (hxa.block _ (World.block_lt_of_cell? w _ r0))).trans r0
  have s1 := (World.cell?_of_block (hxa.block _ (World.block_lt_of_cell? w _ r1))).trans r1
  have hBa := heap_alloc_new w (.cells #[.int .i32 0, .int .i32 0] 43)
  obtain ⟨⟨c0, c1⟩, z0, z1⟩ := facts2 hBa
  have HBa := Lib.hid hBa
  clear hBa
  go_enter Tryd.func21, Tryd.ntmps21
  go_wp2
  go_region
  have hxd := ((Ext.refl w).alloc (.cells #[.int .i32 202, .int .i32 65] 43)).drew
  have hBd : ((w.alloc (.cells #[.int .i32 202, .int .i32 65] 43)).drew).heap[w.heap.size]? = some (.cells #[.int .i32 202, .int .i32 65] 43 (0, 0)) := heap_alloc_new w _
  obtain ⟨g, hg⟩ : ∃ g, g = w.heap.size := ⟨_, rfl⟩
  have hgl : w.heap.size ≤ g := by omega
  rw [← hg] at hBd ⊢
  generalize (w.alloc (.cells #[.int .i32 202, .int .i32 65] 43)).drew = wd at hxd hBd ⊢
  clear s0 s1 c0 c1 z0 z1 HBa hxa hg r0 r1
  go_wp2_with (refine wpList_load_known rfl 46 _ rfl 0 (.agg C) rfl (HL.out _ hxd) ?_)
  clear HL
  go_loopw [18] (fun v wr => ∃ i : Nat, i ≤ 4 ∧ v = .int .i64 i ∧ wr.heap[g]? = some (.cells #[.int .i32 202, .int .i32 65] 43 (0, 0)) ∧ Ext w wr) (fun v _ => 4 - (intOf v).toNat)
  case atStart => exact ⟨0, by omega, rfl, hBd, hxd⟩
  case round =>
    obtain ⟨i, hi, rfl, hB, hx⟩ := hrel
    clear hBd hxd
    by_cases hlt : i < 4
    · have hli : (i : Int) < 4 := by omega
      have hix := fun w2 => HX.out i hlt w2
      obtain ⟨b1, b2, b3, b4, b5, b6⟩ := tw_bd i hlt
      have hqe := fun w2 => twin_eq i hlt w2
      generalize twF i = f at hix b1 b2
      generalize twP i = tp at hix hqe b3 b4
      generalize twQ i = tq at hix hqe b5 b6
      have hBn := heap_alloc_new wr (.cells #[.int .i64 (f : Int), .int .i32 (tp : Int), .int .i32 (tq : Int)] 45)
      have hxn := hx.alloc (.cells #[.int .i64 (f : Int), .int .i32 (tp : Int), .int .i32 (tq : Int)] 45)
      have hBk := (((Ext.refl wr).alloc (.cells #[.int .i64 (f : Int), .int .i32 (tp : Int), .int .i32 (tq : Int)] 45)).block g (lt_of_block hB)).trans hB
      obtain ⟨⟨d0, d1, d2⟩, _⟩ := facts3 hBn
      obtain ⟨⟨e0, e1⟩, _⟩ := facts2 hBk
      clear hBn HX
      go_wp2
      go_roundw
      case rel => exact ⟨i + 1, by omega, by go_num, hBk, hxn⟩
      case measure => simp [intOf]; omega
    · have hie : i = 4 := by omega
      subst hie
      clear HX hB
      go_wp2
      go_ret2
      exact ⟨rfl, hx⟩
theorem code_bytes : twoB 34918 = ⟨#[136, 102]⟩ := by decide +kernel
set_option maxRecDepth 100000 in
set_option maxHeartbeats 1000000 in
theorem bytes_ex (a : Nat) (w : World) (hT : Tab8 w) (hr : w.cell? ⟨a, 0, none⟩ = some (.int .i32 202) ∧ w.cell? ⟨a, 1, none⟩ = some (.int .i32 65)) :
    Calls Tryd.prog 11 #[.slice (some ⟨a, 0, none⟩) 2 2] w fun e w' => e = .returned (.tuple #[.string ⟨#[136, 102]⟩, .int .i64 1]) ∧ Ext w w' := by
  have HTw := Lib.hid (twin_none a w hT hr)
  have HCo := Lib.hid (fun w => code_202 w)
  have HBi := Lib.hid (fun w => big_two 34918 w (by decide))
  rw [code_bytes] at HBi
  obtain ⟨r0, r1⟩ := hr
  have HR0 := Lib.hid r0
  have hlt := World.block_lt_of_cell? w _ r0
  have HLT := Lib.hid hlt
  clear hT r0 r1 hlt
  go_enter Tryd.func11, Tryd.ntmps11
  go_wp2_with (first
    | (go_at_call 21; refine HTw.out.mono ?_; rintro e w1 ⟨rfl, hb1⟩; have r0 := (World.cell?_of_block (hb1.block _ HLT.out)).trans HR0.out)
    | (go_at_call 23; refine (HCo.out _).mono ?_; rintro e w2 ⟨rfl, hb2⟩)
    | (go_at_call 22; refine (HBi.out _).mono ?_; rintro e w3 ⟨rfl, hb3⟩))
  go_ret2
  exact ⟨rfl, (hb1.trans hb2).trans hb3⟩
theorem ex_bytes8 (w : World) (hT : Tab8 w) (t : TypeId) : Calls Tryd.prog 11 #[.slice (some ⟨w.heap.size, 0, none⟩) 2 2] (w.alloc (.cells #[.int .i32 202, .int .i32 65] t)) fun e w' => e = .returned (.tuple #[.string ⟨#[136, 102]⟩, .int .i64 1]) ∧ Ext w w' := by
  have hx := (Ext.refl w).alloc (.cells #[.int .i32 202, .int .i32 65] t)
  have h := facts2 (heap_alloc_new w (.cells #[.int .i32 202, .int .i32 65] t))
  exact (bytes_ex w.heap.size _ (hT.ext hx) h.1).mono fun e w' ⟨he, hk⟩ => ⟨he, hx.trans hk⟩
theorem ex_signs8 (w : World) (hT : Tab8 w) : Calls Tryd.prog 7 #[.int .u8 136, .int .u8 98] w fun e w' => e = .returned (.tuple #[.string ⟨#[195, 138, 204, 132]⟩, .bool true]) ∧ Ext w w' := by
  have h := big_signs 136 98 w hT
  have e1 : sigT (136 : UInt8).toNat (98 : UInt8).toNat = ⟨#[195, 138, 204, 132]⟩ := by decide +kernel
  have e2 : decide (signsB (136 : UInt8).toNat (98 : UInt8).toNat ≠ []) = true := by decide +kernel
  rw [e1, e2] at h
  exact h
set_option maxRecDepth 100000 in
theorem awake8_any (w : World) (hT : Tab8 w) : Calls Tryd.prog 19 #[] w fun e w' => e = .returned (.bool true) ∧ Ext w w' := by
  have HT := Lib.hid hT
  clear hT
  go_enter Tryd.func19, Tryd.ntmps19
  go_wp2_with (first
    | (go_at_call 7; refine (ex_signs8 _ HT.out).mono ?_; rintro e w1 ⟨rfl, hb1⟩)
    | (go_at_call 11; refine (ex_bytes8 _ (HT.out.ext hb1) _).mono ?_; rintro e w2 ⟨rfl, hb2⟩))
  go_ret
  exact ⟨rfl, hb1.trans hb2⟩
theorem awake8 (w : World) (hT : Tab8 w) : Calls Tryd.prog 9 #[] w fun e w' => e = .returned (.bool true) ∧ Ext w w' := by
  have HT := Lib.hid hT
  clear hT
  go_enter Tryd.func9, Tryd.ntmps9
  go_wp2_with (go_at_call 19; refine (awake8_any _ HT.out).mono ?_; rintro e w1 ⟨rfl, hb1⟩)
  go_ret
  exact ⟨rfl, hb1⟩
end Go.Proofs.YtabcneomeemnpaaDoor
