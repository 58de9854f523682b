/-
  Contracts of the readers' functions of package octet (3): numbers that are read.
-/
import Derived.Test.YtbdjncnofpbkkaaOct2
import Derived.Test.YtbdjncnofpbkkaaNum
namespace Go.Proofs.Ytbdjncnofpbkkaa
open Go.ChangeShapes Go.WideShapes Go.ChangeAt Go.RowKit
set_option linter.unusedSimpArgs false
set_option linter.unusedVariables false

/-- A size, cut to 0 to 8. -/
def cw (s : Int) : Int := if s < 0 then 0 else if 8 < s then 8 else s
theorem cw_lo (s : Int) : 0 ≤ cw s := by unfold cw; split <;> (try split) <;> omega
theorem cw_hi (s : Int) : cw s ≤ 8 := by unfold cw; split <;> (try split) <;> omega
theorem width_any (s : Int) (w : World) : Calls Try.prog 55 #[.int .i64 s] w fun e w' => e = .returned (.int .i64 (cw s)) ∧ w = w' := by
  unfold cw
  split
  · exact width_low _ _ (by assumption)
  · split
    · exact width_high _ _ (by assumption)
    · exact width_in _ _ (by omega) (by omega)
theorem take_some (n : Int) (w : World) (b : Nat) (t : ByteArray) (r : Nat) (ba pl : Int) (H : Rdr w b t r ba 0 pl) (hn0 : 0 ≤ n) (hn : n ≤ t.size - r) : Calls Try.prog 34 #[.pointer (some ⟨b, 0, none⟩), .int .i64 n] w fun e w' => ∃ s : ByteArray, Hid (s = t.extract r (r + n.toNat)) ∧ Hid (s.size = n.toNat) ∧ e = .returned (.string s) ∧ Rdr w' b t (r + n.toNat) ba 0 pl ∧ Mod b w w' := by
  refine (take_ok n w b t r ba pl H hn0 hn).mono ?_
  rintro e w' ⟨rfl, h1, h2⟩
  refine ⟨_, rfl, ?_, rfl, h1, h2⟩
  show (t.extract r (r + n.toNat)).size = n.toNat
  have := H.le
  simp; omega
/-- The number of so many bytes of a text, from a place on, the highest first. -/
def bePart (t : ByteArray) (r k : Nat) : Nat := beN (t.extract r (r + k)).data.toList
set_option maxHeartbeats 400000 in
theorem big_ok (n : Int) (w : World) (b : Nat) (t : ByteArray) (r : Nat) (ba pl : Int) (H : Rdr w b t r ba 0 pl) (hn : cw n ≤ t.size - r) : Calls Try.prog 37 #[.pointer (some ⟨b, 0, none⟩), .int .i64 n] w fun e w' => e = .returned (.int .u64 (bePart t r (cw n).toNat)) ∧ Rdr w' b t (r + (cw n).toNat) ba 0 pl ∧ Mod b w w' := by
  have hl := cw_lo n
  have hh := cw_hi n
  go_enter Try.func37, Try.ntmps37
  go_wp2_with (first | (go_at_call 55; refine (width_any _ _).mono ?_; rintro e w1 ⟨rfl, rfl⟩) | (go_at_call 34; refine (take_some _ _ _ _ _ _ _ H hl hn).mono ?_; rintro e w2 ⟨s, HS, HZ, rfl, H2, hm⟩))
  have hsz : s.size ≤ 8 := by have := HZ.out; omega
  clear hl hh hn H HZ
  go_loop [6, 14] (fun q i => ∃ k : Nat, k ≤ s.size ∧ i = .int .i64 k ∧ q = .int .u64 (beN (s.data.toList.take k))) (fun _ i => s.size - (intOf i).toNat)
  case atStart => exact ⟨0, Nat.zero_le _, rfl, rfl⟩
  case round =>
    obtain ⟨k, hk, rfl, rfl⟩ := hrel
    by_cases hlt : k < s.size
    · go_wp2
      go_round
      case rel => 
        refine ⟨k + 1, by omega, by go_num, ?_⟩
        rw [be_step s k hlt hsz]
      case measure => simp [intOf]; omega
    · go_wp2
      go_ret
      have hk' : k = s.size := by omega
      subst hk'
      refine ⟨?_, H2, hm⟩
      unfold bePart
      rw [← HS.out]
      show Ending.returned (.int .u64 ↑(beN (s.data.toList.take s.size))) = _
      rw [List.take_of_length_le (by simp)]
/-- The number of so many bytes of a text, from a place on, the lowest first. -/
def lePart (t : ByteArray) (r k : Nat) : Nat := leN (t.extract r (r + k)).data.toList
end Go.Proofs.Ytbdjncnofpbkkaa
