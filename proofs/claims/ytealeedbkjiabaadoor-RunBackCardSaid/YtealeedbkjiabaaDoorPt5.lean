/-
  The document's sign as bytes; what the law PointSigns says.
-/
import Derived.Test.YtealeedbkjiabaaDoorPt4
namespace Go.Proofs.YtealeedbkjiabaaDoor
open Go Go.ChangeShapes Go.WideShapes Go.ChangeAt Go.RowKit
set_option linter.unusedSimpArgs false
set_option linter.unusedVariables false

theorem lit_string (xs : List Int) (w : World) : (convert 98 9 (.slice (some ⟨w.heap.size, 0, none⟩) xs.length xs.length)).run Tryd.prog (w.alloc (.cells (xs.map fun x => .int .u8 x).toArray 5)) = .ok (.string (strOfNums xs)) (w.alloc (.cells (xs.map fun x => .int .u8 x).toArray 5)) :=
  run_convert_bytes_arg _ 98 5 Tryd.underlying98 Tryd.underlying5 w.heap.size 0 xs.length xs.length xs rfl (fun i hi => by
    have h := heap_alloc_new w (.cells (xs.map fun x => .int .u8 x).toArray 5)
    simp only [World.cell?, h]
    simp [List.getD, hi]) 9 Tryd.underlying9
set_option maxHeartbeats 1000000 in
theorem rbytes_1 (p : Int) (w : World) (h0 : 0 ≤ p) (h1 : p < 128) : Calls Tryd.prog 58 #[.int .i32 p] w fun e w' => e = .returned (.string (strOfNums [p])) ∧ Ext w w' := by
  have hs : (convert 98 9 (.slice (some ⟨w.heap.size, 0, none⟩) 1 1)).run Tryd.prog (w.alloc (.cells #[.int .u8 (p)] 5)) = .ok (.string (strOfNums [p])) _ := lit_string [p] w
  go_enter Tryd.func58, Tryd.ntmps58
  go_wp2
  go_ret
  exact ⟨rfl, (Ext.refl w).alloc _⟩
set_option maxHeartbeats 1000000 in
theorem rbytes_2 (p : Int) (w : World) (h0 : 128 ≤ p) (h1 : p < 2048) : Calls Tryd.prog 58 #[.int .i32 p] w fun e w' => e = .returned (.string (strOfNums [192 + p / 64, 128 + p % 64])) ∧ Ext w w' := by
  have n1 : ¬ p < 128 := by omega
  have hs : (convert 98 9 (.slice (some ⟨w.heap.size, 0, none⟩) 2 2)).run Tryd.prog (w.alloc (.cells #[.int .u8 (192 + p / 64), .int .u8 (128 + p % 64)] 5)) = .ok (.string (strOfNums [192 + p / 64, 128 + p % 64])) _ := lit_string [192 + p / 64, 128 + p % 64] w
  go_enter Tryd.func58, Tryd.ntmps58
  go_wp2
  go_ret
  exact ⟨rfl, (Ext.refl w).alloc _⟩
set_option maxHeartbeats 1000000 in
theorem rbytes_3 (p : Int) (w : World) (h0 : 2048 ≤ p) (h1 : p < 65536) : Calls Tryd.prog 58 #[.int .i32 p] w fun e w' => e = .returned (.string (strOfNums [224 + p / 4096, 128 + p / 64 % 64, 128 + p % 64])) ∧ Ext w w' := by
  have n1 : ¬ p < 128 := by omega
  have n2 : ¬ p < 2048 := by omega
  have hs : (convert 98 9 (.slice (some ⟨w.heap.size, 0, none⟩) 3 3)).run Tryd.prog (w.alloc (.cells #[.int .u8 (224 + p / 4096), .int .u8 (128 + p / 64 % 64), .int .u8 (128 + p % 64)] 5)) = .ok (.string (strOfNums [224 + p / 4096, 128 + p / 64 % 64, 128 + p % 64])) _ := lit_string [224 + p / 4096, 128 + p / 64 % 64, 128 + p % 64] w
  go_enter Tryd.func58, Tryd.ntmps58
  go_wp2
  go_ret
  exact ⟨rfl, (Ext.refl w).alloc _⟩
set_option maxHeartbeats 1000000 in
theorem rbytes_4 (p : Int) (w : World) (h0 : 65536 ≤ p) (h1 : p ≤ 1114111) : Calls Tryd.prog 58 #[.int .i32 p] w fun e w' => e = .returned (.string (strOfNums [240 + p / 262144, 128 + p / 4096 % 64, 128 + p / 64 % 64, 128 + p % 64])) ∧ Ext w w' := by
  have n1 : ¬ p < 128 := by omega
  have n2 : ¬ p < 2048 := by omega
  have n3 : ¬ p < 65536 := by omega
  have hs : (convert 98 9 (.slice (some ⟨w.heap.size, 0, none⟩) 4 4)).run Tryd.prog (w.alloc (.cells #[.int .u8 (240 + p / 262144), .int .u8 (128 + p / 4096 % 64), .int .u8 (128 + p / 64 % 64), .int .u8 (128 + p % 64)] 5)) = .ok (.string (strOfNums [240 + p / 262144, 128 + p / 4096 % 64, 128 + p / 64 % 64, 128 + p % 64])) _ := lit_string [240 + p / 262144, 128 + p / 4096 % 64, 128 + p / 64 % 64, 128 + p % 64] w
  go_enter Tryd.func58, Tryd.ntmps58
  go_wp2
  go_ret
  exact ⟨rfl, (Ext.refl w).alloc _⟩
/-- A sign's bytes, as a text. -/
def signText (p : Int) : ByteArray := ⟨(Lib.encodeRune p).toArray⟩
theorem signText_nums (p : Int) : signText p = strOfNums (Lib.encodeRuneZ p) := rfl
theorem rbytes_any (p : Int) (w : World) (h : isSign p = true) : Calls Tryd.prog 58 #[.int .i32 p] w fun e w' => e = .returned (.string (signText p)) ∧ Ext w w' := by
  have hp := (isSign_iff p).1 h
  rw [signText_nums]
  by_cases h1 : p < 128
  · rw [Lib.encodeRuneZ_one (by omega) (by omega)]
    exact rbytes_1 p w (by omega) h1
  by_cases h2 : p < 2048
  · rw [Lib.encodeRuneZ_two (by omega) (by omega)]
    exact rbytes_2 p w (by omega) h2
  by_cases h3 : p < 65536
  · rw [Lib.encodeRuneZ_three (by omega)]
    exact rbytes_3 p w (by omega) h3
  · rw [Lib.encodeRuneZ_four (by omega) (by omega)]
    exact rbytes_4 p w (by omega) (by omega)
end Go.Proofs.YtealeedbkjiabaaDoor
