/-
  Contracts of the document's own answers for layer 1 (2): its readers.
-/
import Derived.Test.YtdegnjbpjffgmaaOct7
import Derived.Test.YtdegnjbpjffgmaaOct8
import Derived.Laws.ResultCell
namespace Go.Proofs.Ytdegnjbpjffgmaa
open Go.ChangeShapes Go.WideShapes Go.ChangeAt Go.RowKit
set_option linter.unusedSimpArgs false
set_option linter.unusedVariables false

/-- The document's reader, as a value. -/
abbrev rin (t : ByteArray) (r : Nat) (ba er pl : Int) : Value := .agg #[.string t, .int .i64 r, .int .i64 ba, .int .i64 er, .int .i64 pl]
/-- The document's reader, as a block. -/
abbrev rino (t : ByteArray) (r : Nat) (ba er pl : Int) : Obj := .cells #[.string t, .int .i64 r, .int .i64 ba, .int .i64 er, .int .i64 pl] 43
theorem mleft_ok (t : ByteArray) (r : Nat) (ba pl : Int) (w : World) (h : r ≤ t.size) (hs : t.size ≤ 1099511627776) : Calls Try.prog 27 #[rin t r ba 0 pl] w fun e w' => e = .returned (.int .i64 (t.size - r)) ∧ w.alloc (rino t r ba 0 pl) = w' := by
  go_enter Try.func27, Try.ntmps27
  go_wp2
  go_ret
  exact ⟨rfl, rfl⟩
theorem mleft_bad (t : ByteArray) (r : Nat) (ba er pl : Int) (w : World) (he : (er != 0) = true) : Calls Try.prog 27 #[rin t r ba er pl] w fun e w' => e = .returned (.int .i64 0) ∧ w.alloc (rino t r ba er pl) = w' := by
  go_enter Try.func27, Try.ntmps27
  go_wp2
  go_ret
  exact ⟨rfl, rfl⟩
theorem mfail_ok (t : ByteArray) (r : Nat) (ba pl c n : Int) (w : World) (hc : (c == 0) = false) (hc2 : (c != 0) = true) : Calls Try.prog 44 #[rin t r ba 0 pl, .int .i64 c, .int .i64 n] w fun e w' => e = .returned (rin t r ba c n) ∧ (w.alloc (rino t r ba c n)).alloc (rino t r ba c n) = w' := by
  go_enter Try.func44, Try.ntmps44
  go_wp2
  exact bodyPost_ret (v := rin t r ba c n) (by simp [results, Try.results44, go_sem]) rfl ⟨rfl, rfl⟩
theorem mfail_none (t : ByteArray) (r : Nat) (ba pl n : Int) (w : World) : Calls Try.prog 44 #[rin t r ba 0 pl, .int .i64 0, .int .i64 n] w fun e w' => e = .returned (rin t r ba 0 pl) ∧ (w.alloc (rino t r ba 0 pl)).alloc (rino t r ba 0 pl) = w' := by
  go_enter Try.func44, Try.ntmps44
  go_wp2
  exact bodyPost_ret (v := rin t r ba 0 pl) (by simp [results, Try.results44, go_sem]) rfl ⟨rfl, rfl⟩
theorem mfail_bad (t : ByteArray) (r : Nat) (ba er pl c n : Int) (w : World) (he : (er == 0) = false) : Calls Try.prog 44 #[rin t r ba er pl, .int .i64 c, .int .i64 n] w fun e w' => e = .returned (rin t r ba er pl) ∧ (w.alloc (rino t r ba er pl)).alloc (rino t r ba er pl) = w' := by
  go_enter Try.func44, Try.ntmps44
  go_wp2
  exact bodyPost_ret (v := rin t r ba er pl) (by simp [results, Try.results44, go_sem]) rfl ⟨rfl, rfl⟩
theorem mtake_bad (t : ByteArray) (r : Nat) (ba er pl n : Int) (w : World) (he : (er != 0) = true) : Calls Try.prog 38 #[rin t r ba er pl, .int .i64 n] w fun e w' => e = .returned (.tuple #[rin t r ba er pl, .string ⟨#[]⟩]) ∧ (w.alloc (rino t r ba er pl)).alloc (rino t r ba er pl) = w' := by
  go_enter Try.func38, Try.ntmps38
  go_wp2
  exact bodyPost_ret (v := .tuple #[rin t r ba er pl, .string ⟨#[]⟩]) (by simp [results, Try.results38, go_sem]) rfl ⟨rfl, rfl⟩
theorem mtake_low (t : ByteArray) (r : Nat) (ba pl n : Int) (w : World) (h : r ≤ t.size) (hs : t.size ≤ 1099511627776) (h0 : 0 ≤ ba) (h1 : ba ≤ 1099511627776) (hn : n < 0) : Calls Try.prog 38 #[rin t r ba 0 pl, .int .i64 n] w fun e w' => e = .returned (.tuple #[rin t r ba 1 (ba + t.size), .string ⟨#[]⟩]) ∧ (((w.alloc (rino t r ba 0 pl)).alloc (rino t r ba 1 (ba + t.size))).alloc (rino t r ba 1 (ba + t.size))).alloc (rino t r ba 1 (ba + t.size)) = w' := by
  go_enter Try.func38, Try.ntmps38
  go_wp2_with (first | (go_at_call 27; refine (mleft_ok _ _ _ _ _ h hs).mono ?_; rintro e w2 ⟨rfl, rfl⟩) | (go_at_call 44; refine (mfail_ok _ _ _ _ _ _ _ (by decide) (by decide)).mono ?_; rintro e w1 ⟨rfl, rfl⟩))
  exact bodyPost_ret (v := .tuple #[rin t r ba 1 (ba + t.size), .string ⟨#[]⟩]) (by simp [results, Try.results38, go_sem]) rfl ⟨rfl, rfl⟩
theorem mtake_short (t : ByteArray) (r : Nat) (ba pl n : Int) (w : World) (h : r ≤ t.size) (hs : t.size ≤ 1099511627776) (h0 : 0 ≤ ba) (h1 : ba ≤ 1099511627776) (hn0 : 0 ≤ n) (hn : (t.size : Int) - r < n) : Calls Try.prog 38 #[rin t r ba 0 pl, .int .i64 n] w fun e w' => e = .returned (.tuple #[rin t r ba 1 (ba + t.size), .string ⟨#[]⟩]) ∧ ((((w.alloc (rino t r ba 0 pl)).alloc (rino t r ba 1 (ba + t.size))).alloc (rino t r ba 0 pl)).alloc (rino t r ba 1 (ba + t.size))).alloc (rino t r ba 1 (ba + t.size)) = w' := by
  go_enter Try.func38, Try.ntmps38
  go_wp2_with (first | (go_at_call 27; refine (mleft_ok _ _ _ _ _ h hs).mono ?_; rintro e w2 ⟨rfl, rfl⟩) | (go_at_call 44; refine (mfail_ok _ _ _ _ _ _ _ (by decide) (by decide)).mono ?_; rintro e w1 ⟨rfl, rfl⟩))
  exact bodyPost_ret (v := .tuple #[rin t r ba 1 (ba + t.size), .string ⟨#[]⟩]) (by simp [results, Try.results38, go_sem]) rfl ⟨rfl, rfl⟩
theorem mtake_ok (t : ByteArray) (r : Nat) (ba pl n : Int) (w : World) (h : r ≤ t.size) (hs : t.size ≤ 1099511627776) (hn0 : 0 ≤ n) (hn : n ≤ t.size - r) : Calls Try.prog 38 #[rin t r ba 0 pl, .int .i64 n] w fun e w' => e = .returned (.tuple #[rin t (r + n.toNat) ba 0 pl, .string (t.extract r (r + n.toNat))]) ∧ ((w.alloc (rino t (r + n.toNat) ba 0 pl)).alloc (rino t (r + n.toNat) ba 0 pl)).alloc (rino t r ba 0 pl) = w' := by
  obtain ⟨n, rfl⟩ := Int.eq_ofNat_of_zero_le hn0
  rw [Int.toNat_natCast]
  have e1 : (0 : Int) ≤ r := by omega
  have e2 : (r : Int) ≤ r + n := by omega
  have e3 : (r : Int) + n ≤ t.size := by omega
  have e4 : ((r : Int) + n).toNat = r + n := by omega
  go_enter Try.func38, Try.ntmps38
  go_wp2
  exact bodyPost_ret (v := .tuple #[rin t (r + n) ba 0 pl, .string (t.extract r (r + n))]) (by simp [results, Try.results38, go_sem]) rfl ⟨rfl, rfl⟩
end Go.Proofs.Ytdegnjbpjffgmaa
