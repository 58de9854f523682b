/-
  How many codes a piece has, and whether it may be; its rows.
-/
import Derived.Test.YtealeedbkjiabaaDoorTb15
import Derived.Test.YtealeedbkjiabaaDoorTb9
namespace Go.Proofs.YtealeedbkjiabaaDoor
open Go Go.ChangeShapes Go.WideShapes Go.ChangeAt Go.RowKit
set_option linter.unusedSimpArgs false
set_option linter.unusedVariables false

theorem scalar_at {p : Int} {c : Bool} (h : isSign p = c) (w : World) : Calls Tryd.prog 76 #[.int .i32 p] w fun e w' => e = .returned (.bool c) ∧ w = w' := by
  have := scalar_any p w
  rwa [h] at this
/-- Are so many numbers from one on all signs'? -/
def runZ (t c : Int) : Bool := isSign t && (isSign (t + (c - 1)) && (decide (t < 55296) == decide (t + (c - 1) < 55296)))
theorem all_signs (t : Int) (n : Nat) (w : World) (h1 : 1 ≤ n) (h2 : n ≤ 1048576) :
    Calls Tryd.prog 62 #[.int .i32 t, .int .i64 n] w fun e w' => e = .returned (.bool (runZ t n)) ∧ w = w' := by
  unfold runZ
  cases hs : isSign t with
  | false =>
    have HS := Lib.hid (fun w => scalar_at hs w)
    clear hs
    go_enter Tryd.func62, Tryd.ntmps62
    go_wp2_with (go_at_call 76; refine (HS.out _).mono ?_; rintro e w1 ⟨rfl, rfl⟩)
    go_ret
    exact ⟨rfl, rfl⟩
  | true =>
    have HS := Lib.hid (fun w => scalar_at hs w)
    have hb := (isSign_iff t).1 hs
    have ht0 : 0 ≤ t := by omega
    have ht1 : t ≤ 1114111 := by omega
    cases hs2 : isSign (t + ((n : Int) - 1)) with
    | false =>
      have HS2 := Lib.hid (fun w => scalar_at hs2 w)
      clear hs hs2 hb
      go_enter Tryd.func62, Tryd.ntmps62
      go_wp2_with (first
        | (go_at_call 76; refine (HS.out _).mono ?_; rintro e w1 ⟨rfl, rfl⟩; clear HS)
        | (go_at_call 76; refine (HS2.out _).mono ?_; rintro e w1 ⟨rfl, rfl⟩))
      go_ret
      exact ⟨rfl, rfl⟩
    | true =>
      have HS2 := Lib.hid (fun w => scalar_at hs2 w)
      clear hs hs2 hb
      obtain ⟨b1, hb1⟩ : ∃ b1, decide (t < 55296) = b1 := ⟨_, rfl⟩
      obtain ⟨b2, hb2⟩ : ∃ b2, decide (t + ((n : Int) - 1) < 55296) = b2 := ⟨_, rfl⟩
      rw [hb1, hb2]
      cases b1 <;> cases b2
      all_goals
        go_enter Tryd.func62, Tryd.ntmps62
        go_wp2_with (first
          | (go_at_call 76; refine (HS.out _).mono ?_; rintro e w1 ⟨rfl, rfl⟩; clear HS)
          | (go_at_call 76; refine (HS2.out _).mono ?_; rintro e w1 ⟨rfl, rfl⟩))
        go_ret
        exact ⟨by simp_all, rfl⟩
theorem keepFour (w : World) (x y z u : Value) (T : TypeId) : Keep w [(⟨w.heap.size, 0, none⟩, x), (⟨w.heap.size, 1, none⟩, y), (⟨w.heap.size, 2, none⟩, z), (⟨w.heap.size, 3, none⟩, u)] (w.alloc (.cells #[x, y, z, u] T)) := by
  have h := heap_alloc_new w (.cells #[x, y, z, u] T)
  generalize hb : w.heap.size = b at h ⊢
  have e : ∀ (w : World), w.heap[b]? = some (.cells #[x, y, z, u] T (0, 0)) → w.cell? ⟨b, 0, none⟩ = some x ∧ w.cell? ⟨b, 1, none⟩ = some y ∧ w.cell? ⟨b, 2, none⟩ = some z ∧ w.cell? ⟨b, 3, none⟩ = some u := by
    intro w h
    refine ⟨?_, ?_, ?_, ?_⟩ <;> simp [World.cell?, h]
  obtain ⟨a1, a2, a3, a4⟩ := e _ h
  exact ⟨(Ext.refl w).alloc _, a1, a2, a3, a4, trivial⟩
theorem runZ_iff {t : Int} {n : Nat} (h1 : 1 ≤ n) : runZ t n = true ↔ isSign t = true ∧ isSign (t + n - 1) = true ∧ ¬ (t < 55296 ∧ 57343 < t + n - 1) := by
  have e : t + ((n : Int) - 1) = t + n - 1 := by omega
  unfold runZ
  rw [e, Bool.and_eq_true, Bool.and_eq_true, isSign_iff, isSign_iff, beq_iff_eq]
  constructor
  · rintro ⟨a, b, c⟩
    refine ⟨a, b, fun h => ?_⟩
    have : decide (t < 55296) = true := decide_eq_true h.1
    rw [this] at c
    have := of_decide_eq_true c.symm
    omega
  · rintro ⟨a, b, c⟩
    refine ⟨a, b, ?_⟩
    by_cases h : t < 55296
    · rw [decide_eq_true h, decide_eq_true (show t + (n : Int) - 1 < 55296 by omega)]
    · rw [decide_eq_false h, decide_eq_false (show ¬ t + (n : Int) - 1 < 55296 by omega)]
set_option maxHeartbeats 1000000 in
/-- A piece with a text. -/
theorem size_text (f t c : Int) (x : ByteArray) (N : Nat) (w : World) (hf : f ≤ 9223372036854775807) (hT : Tabs w) (hn : x.data.toList ≠ [])
    (HC : ∀ w, Tabs w → Calls Tryd.prog 57 #[.string x] w fun e w' => e = .returned (.int .i64 N) ∧ Ext w w') :
    Calls Tryd.prog 37 #[.agg #[.int .i64 f, .int .i32 t, .int .i64 c, .string x]] w fun e w' => e = .returned (.tuple #[.int .i64 N, .bool (decide (0 ≤ f ∧ 1 ≤ (N : Int) ∧ (N : Int) ≤ 1048576 - f))]) ∧ Ext w w' := by
  obtain ⟨n1, n2, n3⟩ := ne_facts hn
  have HT := Lib.hid hT
  have HCC := Lib.hid HC
  have hbn := (keepFour w (.int .i64 f) (.int .i32 t) (.int .i64 c) (.string x) 74)
  have HK := Lib.hid hbn
  clear hn hT HC hbn
  by_cases h1 : f < 0
  · have e : decide (0 ≤ f ∧ 1 ≤ (N : Int) ∧ (N : Int) ≤ 1048576 - f) = false := decide_eq_false (by omega)
    have h0 : ¬ 0 ≤ f := by omega
    rw [e]
    clear e
    go_enter Tryd.func37, Tryd.ntmps37
    go_wp2_with (go_at_call 57; refine (HCC.out _ (HT.out.ext HK.out.1)).mono ?_; rintro e w1 ⟨rfl, hb1⟩; have hC := HK.out.ext hb1; obtain ⟨k0, k1, k2, k3, _⟩ := hC.2)
    go_ret2
    exact ⟨rfl, hC.1⟩
  by_cases h2 : (N : Int) < 1
  · have e : decide (0 ≤ f ∧ 1 ≤ (N : Int) ∧ (N : Int) ≤ 1048576 - f) = false := decide_eq_false (by omega)
    have h0 : 0 ≤ f := by omega
    have h3 : ¬ 1 ≤ (N : Int) := by omega
    rw [e]
    clear e
    go_enter Tryd.func37, Tryd.ntmps37
    go_wp2_with (go_at_call 57; refine (HCC.out _ (HT.out.ext HK.out.1)).mono ?_; rintro e w1 ⟨rfl, hb1⟩; have hC := HK.out.ext hb1; obtain ⟨k0, k1, k2, k3, _⟩ := hC.2)
    go_ret2
    exact ⟨rfl, hC.1⟩
  by_cases h3 : (1048576 : Int) - f < N
  · have e : decide (0 ≤ f ∧ 1 ≤ (N : Int) ∧ (N : Int) ≤ 1048576 - f) = false := decide_eq_false (by omega)
    have h0 : 0 ≤ f := by omega
    have h4 : 1 ≤ (N : Int) := by omega
    have h5 : ¬ (N : Int) ≤ 1048576 - f := by omega
    rw [e]
    clear e
    go_enter Tryd.func37, Tryd.ntmps37
    go_wp2_with (go_at_call 57; refine (HCC.out _ (HT.out.ext HK.out.1)).mono ?_; rintro e w1 ⟨rfl, hb1⟩; have hC := HK.out.ext hb1; obtain ⟨k0, k1, k2, k3, _⟩ := hC.2)
    go_ret2
    exact ⟨rfl, hC.1⟩
  · have e : decide (0 ≤ f ∧ 1 ≤ (N : Int) ∧ (N : Int) ≤ 1048576 - f) = true := decide_eq_true (by omega)
    have h0 : 0 ≤ f := by omega
    have h4 : 1 ≤ (N : Int) := by omega
    have h5 : (N : Int) ≤ 1048576 - f := by omega
    have h6 : f ≤ 1048576 := by omega
    rw [e]
    clear e
    go_enter Tryd.func37, Tryd.ntmps37
    go_wp2_with (go_at_call 57; refine (HCC.out _ (HT.out.ext HK.out.1)).mono ?_; rintro e w1 ⟨rfl, hb1⟩; have hC := HK.out.ext hb1; obtain ⟨k0, k1, k2, k3, _⟩ := hC.2)
    go_ret2
    exact ⟨rfl, hC.1⟩
set_option maxHeartbeats 1000000 in
/-- A piece without a text that has no such codes. -/
theorem size_plain_no (f t c : Int) (w : World) (hf : f ≤ 9223372036854775807) (h : f < 0 ∨ c < 1 ∨ 1048576 - f < c) :
    Calls Tryd.prog 37 #[.agg #[.int .i64 f, .int .i32 t, .int .i64 c, .string ⟨#[]⟩]] w fun e w' => e = .returned (.tuple #[.int .i64 c, .bool false]) ∧ Ext w w' := by
  have HK := Lib.hid (keepFour w (.int .i64 f) (.int .i32 t) (.int .i64 c) (.string ⟨#[]⟩) 74)
  by_cases h1 : f < 0
  · have h0 : ¬ 0 ≤ f := by omega
    clear h
    obtain ⟨k0, k1, k2, k3, _⟩ := HK.out.2
    go_enter Tryd.func37, Tryd.ntmps37
    go_wp2
    go_ret2
    exact ⟨rfl, HK.out.1⟩
  by_cases h2 : c < 1
  · have h0 : 0 ≤ f := by omega
    have h3 : ¬ 1 ≤ c := by omega
    clear h
    obtain ⟨k0, k1, k2, k3, _⟩ := HK.out.2
    go_enter Tryd.func37, Tryd.ntmps37
    go_wp2
    go_ret2
    exact ⟨rfl, HK.out.1⟩
  · have h0 : 0 ≤ f := by omega
    have h3 : 1 ≤ c := by omega
    have h4 : ¬ c ≤ 1048576 - f := by omega
    clear h
    obtain ⟨k0, k1, k2, k3, _⟩ := HK.out.2
    go_enter Tryd.func37, Tryd.ntmps37
    go_wp2
    go_ret2
    exact ⟨rfl, HK.out.1⟩
set_option maxHeartbeats 1000000 in
/-- A piece without a text that has such codes. -/
theorem size_plain (f t : Int) (n : Nat) (w : World) (h0 : 0 ≤ f) (h1 : 1 ≤ n) (h2 : (n : Int) ≤ 1048576 - f) :
    Calls Tryd.prog 37 #[.agg #[.int .i64 f, .int .i32 t, .int .i64 n, .string ⟨#[]⟩]] w fun e w' => e = .returned (.tuple #[.int .i64 n, .bool (runZ t n)]) ∧ Ext w w' := by
  have HK := Lib.hid (keepFour w (.int .i64 f) (.int .i32 t) (.int .i64 n) (.string ⟨#[]⟩) 74)
  have HA := Lib.hid (fun w => all_signs t n w h1 (by omega))
  have h3 : 1 ≤ (n : Int) := by omega
  have h4 : f ≤ 1048576 := by omega
  generalize runZ t n = b at HA
  obtain ⟨k0, k1, k2, k3, _⟩ := HK.out.2
  go_enter Tryd.func37, Tryd.ntmps37
  go_wp2_with (go_at_call 62; refine (HA.out _).mono ?_; rintro e w1 ⟨rfl, rfl⟩)
  go_ret2
  exact ⟨rfl, HK.out.1⟩
end Go.Proofs.YtealeedbkjiabaaDoor
