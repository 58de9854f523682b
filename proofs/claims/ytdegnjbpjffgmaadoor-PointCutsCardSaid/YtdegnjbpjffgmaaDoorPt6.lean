/-
  Contracts of package point (5): whether a text's bytes are all below 128, whether it is made of signs, how many.
-/
import Derived.Test.YtdegnjbpjffgmaaDoorPt5
namespace Go.Proofs.YtdegnjbpjffgmaaDoor
open Go Go.ChangeShapes Go.WideShapes Go.ChangeAt Go.RowKit
set_option linter.unusedSimpArgs false
set_option linter.unusedVariables false

/-- Are the first k bytes below 128? -/
def low (s : ByteArray) (k : Nat) : Bool := (s.data.toList.take k).all fun b => decide (b.toNat < 128)
def lowAll (s : ByteArray) : Bool := low s s.size
theorem low_zero (s : ByteArray) : low s 0 = true := rfl
theorem byte_at (s : ByteArray) (k : Nat) (h : k < s.size) : s.data.toList[k]? = some s[k] := by
  have h2 : k < s.data.size := h
  rw [Array.getElem?_toList, Array.getElem?_eq_getElem h2]
  rfl
theorem low_succ (s : ByteArray) (k : Nat) (h : k < s.size) : low s (k + 1) = (low s k && decide ((s[k]).toNat < 128)) := by
  have hl : k < s.data.toList.length := h
  have e : s.data.toList[k] = s[k] := by
    have := byte_at s k h
    rw [List.getElem?_eq_getElem hl] at this
    exact Option.some.inj this
  unfold low
  rw [List.take_succ_eq_append_getElem hl, List.all_append, e]
  simp
theorem low_mono (s : ByteArray) {k : Nat} (hk : k ≤ s.size) (h : low s k = false) : lowAll s = false := by
  unfold lowAll low at *
  rw [List.all_eq_false] at h ⊢
  obtain ⟨x, hx, hn⟩ := h
  refine ⟨x, ?_, hn⟩
  have e : s.data.toList.take s.size = s.data.toList := List.take_of_length_le (Nat.le_of_eq rfl)
  rw [e]
  exact List.mem_of_mem_take hx
set_option maxRecDepth 100000 in
set_option maxHeartbeats 1000000 in
theorem plain_any (s : ByteArray) (w : World) (hs : s.size ≤ 1099511627776) : Calls Tryd.prog 22 #[.string s] w fun e w' => e = .returned (.bool (lowAll s)) ∧ w = w' := by
  go_enter Tryd.func22, Tryd.ntmps22
  go_wp2
  go_loop [6] (fun i => ∃ k : Nat, k ≤ s.size ∧ i = .int .i64 k ∧ Hid (low s k = true)) (fun i => s.size - (intOf i).toNat)
  case atStart => exact ⟨0, by omega, rfl, low_zero s⟩
  case round =>
    obtain ⟨k, hk, rfl, HL⟩ := hrel
    by_cases hlt : k < s.size
    · by_cases hb : s[k].toNat < 128
      · have hb1 : ¬ (128 : Int) ≤ (s[k].toNat : Int) := by omega
        have HB := Lib.hid hb
        clear hb
        go_wp2
        go_round
        case rel =>
          refine ⟨k + 1, by omega, by go_num, ?_⟩
          show low s (k + 1) = true
          rw [low_succ s k hlt, HL.out, decide_eq_true HB.out]
          rfl
        case measure => simp [intOf]; omega
      · have hb1 : (128 : Int) ≤ (s[k].toNat : Int) := by omega
        have hla : lowAll s = false := low_mono s (k := k + 1) (by omega) (by rw [low_succ s k hlt, decide_eq_false hb]; simp)
        have HLA := Lib.hid hla
        clear hla hb
        go_wp2
        go_ret
        exact ⟨by rw [HLA.out]; rfl, rfl⟩
    · have hkl : k = s.size := by omega
      have hla : lowAll s = true := by
        have := HL.out
        rw [hkl] at this
        exact this
      have HLA := Lib.hid hla
      clear hla
      go_wp2
      go_ret
      exact ⟨by rw [HLA.out]; rfl, rfl⟩
/-- Is a text made of signs? -/
def validS (s : ByteArray) : Bool := Lib.validD s.data.toList
theorem valid_any (s : ByteArray) (w : World) (hT : Tabs w) (hs : s.size ≤ 1099511627776) : Calls Tryd.prog 18 #[.string s] w fun e w' => e = .returned (.bool (validS s)) ∧ Ext w w' := by
  have hv : Calls Tryd.prog 26 #[.string s] w fun e w' => e = .returned (.bool (validS s)) ∧ Ext w w' := Tryd.utf8_ValidString s w (by omega) hT
  have HV := Lib.hid hv
  clear hv
  go_enter Tryd.func18, Tryd.ntmps18
  go_wp2_with (go_at_call 26; refine HV.out.mono ?_; rintro e w1 ⟨rfl, hb1⟩)
  go_ret
  exact ⟨rfl, hb1⟩
theorem count_no (s : ByteArray) (w : World) (hT : Tabs w) (hs : s.size ≤ 1099511627776) (h : validS s = false) : Calls Tryd.prog 17 #[.string s] w fun e w' => e = .returned (.int .i64 0) ∧ Ext w w' := by
  have hv := valid_any s w hT hs
  rw [h] at hv
  have HV := Lib.hid hv
  clear hv
  go_enter Tryd.func17, Tryd.ntmps17
  go_wp2_with (go_at_call 18; refine HV.out.mono ?_; rintro e w1 ⟨rfl, hb1⟩)
  go_ret
  exact ⟨rfl, hb1⟩
theorem count_yes (s : ByteArray) (w : World) (hT : Tabs w) (hs : s.size ≤ 1099511627776) (h : validS s = true) : Calls Tryd.prog 17 #[.string s] w fun e w' => e = .returned (.int .i64 (Lib.runeCount s)) ∧ Ext w w' := by
  have hv := valid_any s w hT hs
  rw [h] at hv
  have HV := Lib.hid hv
  have HC : Hid (∀ w : World, Calls Tryd.prog 25 #[.string s] w fun e w' => e = .returned (.int .i64 (Lib.runeCount s)) ∧ Ext w w') := fun w =>
    (Tryd.utf8_RuneCountInString s w (by omega)).mono fun e w' ⟨h1, pos, h2⟩ => ⟨h1, by rw [h2]; exact (Ext.refl w).alloc _⟩
  clear hv
  generalize Lib.runeCount s = n at HC
  go_enter Tryd.func17, Tryd.ntmps17
  go_wp2_with (first | (go_at_call 18; refine HV.out.mono ?_; rintro e w1 ⟨rfl, hb1⟩) | (go_at_call 25; refine (HC.out _).mono ?_; rintro e w2 ⟨rfl, hb2⟩))
  go_ret
  exact ⟨rfl, hb1.trans hb2⟩
theorem lowAll_valid {s : ByteArray} (h : lowAll s = true) : validS s = true := by
  unfold lowAll low at h
  unfold validS
  have e : s.data.toList.take s.size = s.data.toList := List.take_of_length_le (Nat.le_of_eq rfl)
  rw [e, List.all_eq_true] at h
  rw [Lib.validD_ascii s.data.toList.length s.data.toList (fun b hb => by
    have := h b (List.mem_of_mem_take hb)
    simpa using this), List.drop_length]
  rfl
theorem lowAll_count {s : ByteArray} (h : lowAll s = true) : Lib.runeCount s = s.size := by
  apply Lib.runeCount_ascii
  intro j hj
  unfold lowAll low at h
  have e : s.data.toList.take s.size = s.data.toList := List.take_of_length_le (Nat.le_of_eq rfl)
  rw [e, List.all_eq_true] at h
  have h2 := byte_at s j hj
  have := h s[j] (List.mem_of_getElem? h2)
  simpa using this
end Go.Proofs.YtdegnjbpjffgmaaDoor
