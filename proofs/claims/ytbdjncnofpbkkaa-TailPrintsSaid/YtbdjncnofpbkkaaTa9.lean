/-
  Layer 12: the document's example.
-/
import Derived.Test.YtbdjncnofpbkkaaTa6
import Derived.Test.YtbdjncnofpbkkaaTaQ
import Derived.Test.YtbdjncnofpbkkaaTaN
import Derived.Test.YtbdjncnofpbkkaaTa8
import Derived.Test.YtbdjncnofpbkkaaOct6
import Derived.Test.YtbdjncnofpbkkaaCel
namespace Go.Proofs.Ytbdjncnofpbkkaa
open Go Go.ChangeShapes Go.WideShapes Go.ChangeAt Go.RowKit
set_option linter.unusedSimpArgs false
set_option linter.unusedVariables false

theorem fault_ok (w : World) : Calls Try.prog 26 #[.agg #[.int .i64 0, .int .i64 0]] w fun e w' => e = .returned (.bool false) ∧ Ext w w' := bad_no 0 0 w (by decide)
theorem fault_bad (er pl : Int) (w : World) (h : (er != 0) = true) : Calls Try.prog 26 #[.agg #[.int .i64 er, .int .i64 pl]] w fun e w' => e = .returned (.bool true) ∧ Ext w w' := bad_yes er pl w h
theorem parse_by (b : ByteArray) : ByT (parseZ b) := by
  unfold parseZ ByT trackZ
  have h1 := (b.data.toList.getD 126 0).toNat_lt
  have h2 := (b.data.toList.getD 127 0).toNat_lt
  refine ⟨?_, ?_, ?_, ?_⟩ <;> simp only <;> (try split) <;> omega
/-! ### The example -/
def exT : TailZ := ⟨⟨#[97]⟩, ⟨#[]⟩, ⟨#[]⟩, ⟨#[]⟩, ⟨#[]⟩, 5, 17⟩
theorem exT_by : ByT exT := by unfold ByT exT; decide
theorem exT_good : GoodT exT := (check_good exT).1 (by decide +kernel)
theorem exT_mark : (printZ exT).extract 0 4 = ⟨#[84, 65, 71, 97]⟩ := by decide +kernel
theorem exT_126 (h : 126 < (printZ exT).size) : ((printZ exT)[126]'h).toNat = 5 := by
  have e : (printZ exT).data.toList.getD 126 0 = 5 := by rw [print_list]; decide +kernel
  rw [getD_at _ 126 h] at e
  rw [e]
  rfl
theorem tag_print (T : TailZ) (h : GoodT T) (s : ByteArray) : tagAt (s ++ printZ T) s.size := ⟨by rw [ByteArray.size_append, print_size T h], print_mark T s⟩
theorem tag_print0 (T : TailZ) (h : GoodT T) : tagAt (printZ T) 0 := by
  have := print_mark T ⟨#[]⟩
  rw [app_list] at this
  exact ⟨print_size T h, this⟩
set_option maxRecDepth 100000 in
set_option maxHeartbeats 4000000 in
theorem awake12_any (w : World) : Calls Try.prog 30 #[] w fun e w' => e = .returned (.bool true) ∧ Ext w w' := by
  have HP := Lib.hid (fun w => cprint_ok exT w exT_by exT_good)
  have HR : Hid (∀ w, Calls Try.prog 18 #[.string (printZ exT)] w fun e w' => e = .returned (.tuple #[.agg (tailA exT), .bool true]) ∧ Ext w w') := fun w => by
    have := cparse_yes (printZ exT) w (tag_print0 exT exT_good)
    rwa [parse_print exT exT_good (by decide) (by decide) (by decide) (by decide)] at this
  have HA := Lib.hid (fun w => awake1_any w)
  have HBad := Lib.hid (fun w => fault_ok w)
  have hsz := print_size exT exT_good
  have h126 : 126 < (printZ exT).size := by omega
  have hm := exT_mark
  have h5 := exT_126 h126
  generalize printZ exT = s at HP HR hsz h126 hm h5
  have i126 : (126 : Int) < s.size := by omega
  have hszi : (s.size : Int) = 128 := by omega
  have g5 : (((s[126]'h126).toNat : Int) == 5) = true := by rw [h5]; rfl
  have b4 : (4 : Int) ≤ s.size := by omega
  unfold tailA exT at HP HR
  simp only at HP HR
  clear h5
  have hA0 := Lib.hid (heap_alloc_new w (.cells #[.string ⟨#[97]⟩, .string ⟨#[]⟩, .string ⟨#[]⟩, .string ⟨#[]⟩, .string ⟨#[]⟩, .int .u8 5, .int .u8 17] 31))
  obtain ⟨a0, a1, a2, a3, a4, a5, a6⟩ := facts7 hA0.out
  go_enter Try.func30, Try.ntmps30
  go_wp2_with (first
    | (go_at_call 22; refine (HP.out _).mono ?_; rintro e w1 ⟨rfl, hb1⟩; clear a0 a1 a2 a3 a4 a5 a6; have HF := Lib.hid (heap_alloc_new w1 (.cells #[.int .i64 0, .int .i64 0] 43)); have hx1 := hb1.alloc (.cells #[.int .i64 0, .int .i64 0] 43))
    | (go_at_call 18; refine (HR.out _).mono ?_; rintro e w2 ⟨rfl, hb2⟩; have HG := Lib.hid (heap_alloc_new w2 (.cells #[.string ⟨#[97]⟩, .string ⟨#[]⟩, .string ⟨#[]⟩, .string ⟨#[]⟩, .string ⟨#[]⟩, .int .u8 5, .int .u8 17] 31)); have hx2 := hb2.alloc (.cells #[.string ⟨#[97]⟩, .string ⟨#[]⟩, .string ⟨#[]⟩, .string ⟨#[]⟩, .string ⟨#[]⟩, .int .u8 5, .int .u8 17] 31))
    | (go_at_call 46; refine (HA.out _).mono ?_; rintro e w3 ⟨rfl, hb3⟩; obtain ⟨⟨f0, f1⟩, _⟩ := facts2 (((hx2.trans hb3).block w1.heap.size (by simp)).trans HF.out))
    | (go_at_call 26; refine (HBad.out _).mono ?_; rintro e w4 ⟨rfl, hb4⟩; clear f0 f1; obtain ⟨n0, n1, n2, n3, n4, n5, n6⟩ := facts7 (((hb3.trans hb4).block w2.heap.size (by simp)).trans HG.out); obtain ⟨a0, a1, a2, a3, a4, a5, a6⟩ := facts7 ((((hx1.trans hx2).trans (hb3.trans hb4)).block w.heap.size (by simp)).trans hA0.out)))
  go_ret
  exact ⟨rfl, ((Ext.refl w).alloc _).trans (((hx1.trans hx2).trans hb3).trans hb4)⟩
theorem awake12 (w : World) : Calls Try.prog 17 #[] w fun e w' => e = .returned (.bool true) ∧ Ext w w' := by
  have HA := Lib.hid (fun w => awake12_any w)
  go_enter Try.func17, Try.ntmps17
  go_wp2_with (go_at_call 30; refine (HA.out _).mono ?_; rintro e w1 ⟨rfl, hb1⟩)
  go_ret
  exact ⟨rfl, hb1⟩
end Go.Proofs.Ytbdjncnofpbkkaa
