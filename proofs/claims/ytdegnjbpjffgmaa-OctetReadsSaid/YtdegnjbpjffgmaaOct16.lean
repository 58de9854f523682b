/-
  The law's 'do' (4): whatever is read: both are of one mind.
-/
import Derived.Test.YtdegnjbpjffgmaaOct15
namespace Go.Proofs.Ytdegnjbpjffgmaa
open Go.ChangeShapes Go.WideShapes Go.ChangeAt Go.RowKit
set_option linter.unusedSimpArgs false
set_option linter.unusedVariables false

section
variable (w : World) (b : Nat) (t : ByteArray) (r : Nat) (ba er pl n c : Int) (s : ByteArray)

theorem xt_bad (he : (er != 0) = true) : ∀ w, Calls Try.prog 38 #[rin t r ba er pl, .int .i64 n] w fun e w' => e = .returned (.tuple #[rin t r ba er pl, .string ⟨#[]⟩]) ∧ Ext w w' := fun w =>
  (mtake_bad t r ba er pl n w he).mono fun e w' ⟨h1, h2⟩ => ⟨h1, by rw [← h2]; exact ((Ext.refl _).alloc _).alloc _⟩
theorem xt_low (h : r ≤ t.size) (hs : t.size ≤ 1099511627776) (h0 : 0 ≤ ba) (h1 : ba ≤ 1099511627776) (hn : n < 0) : ∀ w, Calls Try.prog 38 #[rin t r ba 0 pl, .int .i64 n] w fun e w' => e = .returned (.tuple #[rin t r ba 1 (ba + t.size), .string ⟨#[]⟩]) ∧ Ext w w' := fun w =>
  (mtake_low t r ba pl n w h hs h0 h1 hn).mono fun e w' ⟨h1, h2⟩ => ⟨h1, by rw [← h2]; exact ((((Ext.refl _).alloc _).alloc _).alloc _).alloc _⟩
theorem xt_short (h : r ≤ t.size) (hs : t.size ≤ 1099511627776) (h0 : 0 ≤ ba) (h1 : ba ≤ 1099511627776) (hn0 : 0 ≤ n) (hn : (t.size : Int) - r < n) : ∀ w, Calls Try.prog 38 #[rin t r ba 0 pl, .int .i64 n] w fun e w' => e = .returned (.tuple #[rin t r ba 1 (ba + t.size), .string ⟨#[]⟩]) ∧ Ext w w' := fun w =>
  (mtake_short t r ba pl n w h hs h0 h1 hn0 hn).mono fun e w' ⟨h1, h2⟩ => ⟨h1, by rw [← h2]; exact (((((Ext.refl _).alloc _).alloc _).alloc _).alloc _).alloc _⟩
theorem xt_ok (h : r ≤ t.size) (hs : t.size ≤ 1099511627776) (hn0 : 0 ≤ n) (hn : n ≤ t.size - r) : ∀ w, Calls Try.prog 38 #[rin t r ba 0 pl, .int .i64 n] w fun e w' => e = .returned (.tuple #[rin t ((r + n.toNat : Nat)) ba 0 pl, .string (t.extract r (r + n.toNat))]) ∧ Ext w w' := fun w =>
  (mtake_ok t r ba pl n w h hs hn0 hn).mono fun e w' ⟨h1, h2⟩ => ⟨h1, by rw [← h2]; exact (((Ext.refl _).alloc _).alloc _).alloc _⟩
theorem ext_mod {P : Program} {f : FuncId} {args : Array Value} {w : World} {b : Nat} {t : ByteArray} {r : Nat} {ba er pl : Int} {v : Value} (H : Rdr w b t r ba er pl)
    (h : Calls P f args w fun e w' => e = .returned v ∧ Ext w w') : Calls P f args w fun e w' => e = .returned v ∧ Rdr w' b t r ba er pl ∧ Mod b w w' :=
  h.mono fun e w' ⟨h1, h2⟩ => ⟨h1, H.ext h2, Mod.of h2⟩
end

theorem ne_of_er {er : Int} (h : ¬ er = 0) : (er != 0) = true := by rw [bne_iff_ne]; exact h

theorem do_take (w : World) (b : Nat) (t : ByteArray) (r : Nat) (ba er pl n c : Int) (s : ByteArray) (H : Rdr w b t r ba er pl) :
    Calls Try.prog 26 #[.pointer (some ⟨b, 0, none⟩), rin t r ba er pl, opv 0 n c s] w (DoEnd w b t ba) := by
  by_cases he : er = 0
  · subst he
    by_cases h1 : n < 0
    · exact do0 w b t r _ ba 0 pl _ _ n c s H _ (xt_low _ _ _ _ _ H.le H.small H.lo H.hi h1) (fun w H => take_low n w b t r ba pl H h1)
    by_cases h2 : (t.size : Int) - r < n
    · exact do0 w b t r _ ba 0 pl _ _ n c s H _ (xt_short _ _ _ _ _ H.le H.small H.lo H.hi (by omega) h2) (fun w H => take_short n w b t r ba pl H (by omega) h2)
    · exact do0 w b t r _ ba 0 pl _ _ n c s H _ (xt_ok _ _ _ _ _ H.le H.small (by omega) (by omega)) (fun w H => take_ok n w b t r ba pl H (by omega) (by omega))
  · exact do0 w b t r _ ba er pl _ _ n c s H _ (xt_bad _ _ _ _ _ _ (ne_of_er he)) (fun w H => ext_mod H (take_bad n w b t r ba er pl H (ne_of_er he)))
theorem do_rest (w : World) (b : Nat) (t : ByteArray) (r : Nat) (ba er pl n c : Int) (s : ByteArray) (H : Rdr w b t r ba er pl) :
    Calls Try.prog 26 #[.pointer (some ⟨b, 0, none⟩), rin t r ba er pl, opv 1 n c s] w (DoEnd w b t ba) := by
  have hle := H.le
  by_cases he : er = 0
  · subst he
    have e1 : r + ((t.size : Int) - r).toNat = t.size := by omega
    have h2 := xt_ok t r ba pl ((t.size : Int) - r) H.le H.small (by omega) (Int.le_refl _)
    rw [e1] at h2
    exact do1 w b t r _ ba 0 pl _ _ n c s H _ _ (fun w => (mleft_ok t r ba pl w H.le H.small).mono fun e w' ⟨h1, h2⟩ => ⟨h1, by rw [← h2]; exact (Ext.refl _).alloc _⟩) h2 (fun w H => rest_ok w b t r ba pl H)
  · exact do1 w b t r _ ba er pl _ _ n c s H _ _ (fun w => (mleft_bad t r ba er pl w (ne_of_er he)).mono fun e w' ⟨h1, h2⟩ => ⟨h1, by rw [← h2]; exact (Ext.refl _).alloc _⟩) (xt_bad _ _ _ _ _ _ (ne_of_er he)) (fun w H => ext_mod H (rest_bad w b t r ba er pl H (ne_of_er he)))
theorem do_peek (w : World) (b : Nat) (t : ByteArray) (r : Nat) (ba er pl n c : Int) (s : ByteArray) (H : Rdr w b t r ba er pl) :
    Calls Try.prog 26 #[.pointer (some ⟨b, 0, none⟩), rin t r ba er pl, opv 2 n c s] w (DoEnd w b t ba) := by
  by_cases he : er = 0
  · subst he
    exact do2 w b t r ba 0 pl n c s H _ (fun w => mpeek_ok t r ba pl n w H.le H.small) (fun w H => peek_ok n w b t r ba pl H)
  · exact do2 w b t r ba er pl n c s H _ (fun w => mpeek_bad t r ba er pl n w (ne_of_er he)) (fun w H => peek_bad n w b t r ba er pl H (ne_of_er he))
theorem part_size (t : ByteArray) (r k : Nat) (h : r + k ≤ t.size) : (t.extract r (r + k)).size = k := by simp; omega
theorem do_big (w : World) (b : Nat) (t : ByteArray) (r : Nat) (ba er pl n c : Int) (s : ByteArray) (H : Rdr w b t r ba er pl) :
    Calls Try.prog 26 #[.pointer (some ⟨b, 0, none⟩), rin t r ba er pl, opv 3 n c s] w (DoEnd w b t ba) := by
  have hle := H.le
  have hl := cw_lo n
  have hh := cw_hi n
  have z : ∀ w, Calls Try.prog 40 #[.string ⟨#[]⟩] w fun e w' => e = .returned (.int .u64 0) ∧ w = w' := fun w => mnumber ⟨#[]⟩ w (by decide)
  by_cases he : er = 0
  · subst he
    by_cases h2 : (t.size : Int) - r < cw n
    · exact do3 w b t r _ ba 0 pl _ _ n c s H _ _ _ (fun w => rsize_any n w) (xt_short _ _ _ _ _ H.le H.small H.lo H.hi hl h2) (fun w H => big_short n w b t r ba pl H h2) z
    · exact do3 w b t r _ ba 0 pl _ _ n c s H _ _ _ (fun w => rsize_any n w) (xt_ok _ _ _ _ _ H.le H.small hl (by omega)) (fun w H => big_ok n w b t r ba pl H (by omega)) (fun w => mnumber _ w (by rw [part_size _ _ _ (by omega)]; omega))
  · exact do3 w b t r _ ba er pl _ _ n c s H _ _ _ (fun w => rsize_any n w) (xt_bad _ _ _ _ _ _ (ne_of_er he)) (fun w H => ext_mod H (big_bad n w b t r ba er pl H (ne_of_er he))) z
theorem do_small (w : World) (b : Nat) (t : ByteArray) (r : Nat) (ba er pl n c : Int) (s : ByteArray) (H : Rdr w b t r ba er pl) :
    Calls Try.prog 26 #[.pointer (some ⟨b, 0, none⟩), rin t r ba er pl, opv 4 n c s] w (DoEnd w b t ba) := by
  have hle := H.le
  have hl := cw_lo n
  have hh := cw_hi n
  have zb : ∀ w, Calls Try.prog 12 #[.string ⟨#[]⟩] w fun e w' => e = .returned (.string ⟨#[]⟩) ∧ w = w' := fun w => rback_ref ⟨#[]⟩ w (by decide)
  have z : ∀ w, Calls Try.prog 40 #[.string ⟨#[]⟩] w fun e w' => e = .returned (.int .u64 0) ∧ w = w' := fun w => mnumber ⟨#[]⟩ w (by decide)
  by_cases he : er = 0
  · subst he
    by_cases h2 : (t.size : Int) - r < cw n
    · exact do4 w b t r _ ba 0 pl _ _ n c s H _ _ _ _ (fun w => rsize_any n w) (xt_short _ _ _ _ _ H.le H.small H.lo H.hi hl h2) (fun w H => small_short n w b t r ba pl H h2) zb z
    · have hz := part_size t r (cw n).toNat (by omega)
      have e : ((beN (rev (t.extract r (r + (cw n).toNat))).data.toList : Nat) : Int) = lePart t r (cw n).toNat := by
        unfold lePart
        rw [leN_rev]
        rfl
      have hr : (rev (t.extract r (r + (cw n).toNat))).size ≤ 8 := by
        show (t.extract r (r + (cw n).toNat)).data.toList.reverse.length ≤ 8
        rw [List.length_reverse]
        have : (t.extract r (r + (cw n).toNat)).data.toList.length = (t.extract r (r + (cw n).toNat)).size := rfl
        omega
      have hn := fun w => mnumber _ w hr
      rw [e] at hn
      exact do4 w b t r _ ba 0 pl _ _ n c s H _ _ _ _ (fun w => rsize_any n w) (xt_ok _ _ _ _ _ H.le H.small hl (by omega)) (fun w H => small_ok n w b t r ba pl H (by omega)) (fun w => rback_ref _ w (by omega)) hn
  · exact do4 w b t r _ ba er pl _ _ n c s H _ _ _ _ (fun w => rsize_any n w) (xt_bad _ _ _ _ _ _ (ne_of_er he)) (fun w H => ext_mod H (small_bad n w b t r ba er pl H (ne_of_er he))) zb z
theorem hiPart_le (t : ByteArray) (r : Nat) (h : r + 4 ≤ t.size) : hiPart t r ≤ 4 := by
  have := hiAt_le (t.extract r (r + 4)).data.toList
  have e : (t.extract r (r + 4)).data.toList.length = (t.extract r (r + 4)).size := rfl
  rw [e, part_size t r 4 h] at this
  exact this
theorem do_safe (w : World) (b : Nat) (t : ByteArray) (r : Nat) (ba er pl n c : Int) (s : ByteArray) (H : Rdr w b t r ba er pl) :
    Calls Try.prog 26 #[.pointer (some ⟨b, 0, none⟩), rin t r ba er pl, opv 5 n c s] w (DoEnd w b t ba) := by
  have hle := H.le
  by_cases he : er = 0
  · subst he
    by_cases h2 : (t.size : Int) - r < 4
    · exact do5 w b t r _ ba 0 pl _ _ n c s H _ (fun w => mrsafe_short t r ba pl w H.le H.small H.lo H.hi h2) (fun w H => rsafe_short w b t r ba pl H h2)
    by_cases h3 : hiPart t r < 4
    · refine do5 w b t r (r + 4) ba 0 pl 1 (ba + r + hiPart t r) n c s H 0 (fun w => (mrsafe_ok t r ba pl w H.le H.small H.lo H.hi (by omega)).mono ?_) (fun w H => (rsafe_ok w b t r ba pl H (by omega)).mono ?_)
      · rintro e w' ⟨hx, ⟨h4, _⟩ | ⟨_, h4⟩⟩
        · omega
        · exact ⟨h4, hx⟩
      · rintro e w' ⟨hx, ⟨h4, _⟩ | ⟨_, h4, h5⟩⟩
        · omega
        · exact ⟨h4, h5, hx⟩
    · have h3' := hiPart_le t r (by omega)
      refine do5 w b t r (r + 4) ba 0 pl 0 pl n c s H (sfPart t r) (fun w => (mrsafe_ok t r ba pl w H.le H.small H.lo H.hi (by omega)).mono ?_) (fun w H => (rsafe_ok w b t r ba pl H (by omega)).mono ?_)
      · rintro e w' ⟨hx, ⟨_, h4⟩ | ⟨h4, _⟩⟩
        · exact ⟨h4, hx⟩
        · omega
      · rintro e w' ⟨hx, ⟨_, h4, h5⟩ | ⟨h4, _⟩⟩
        · exact ⟨h4, h5, hx⟩
        · omega
  · exact do5 w b t r _ ba er pl _ _ n c s H _ (fun w => mrsafe_bad t r ba er pl w (ne_of_er he) (by have := H.small; omega) H.lo H.hi) (fun w H => ext_mod H (rsafe_bad w b t r ba er pl H (ne_of_er he)))
theorem do_want (w : World) (b : Nat) (t : ByteArray) (r : Nat) (ba er pl n c : Int) (s : ByteArray) (H : Rdr w b t r ba er pl) (hs : s.size ≤ 1099511627776) :
    Calls Try.prog 26 #[.pointer (some ⟨b, 0, none⟩), rin t r ba er pl, opv 6 n c s] w (DoEnd w b t ba) := by
  have hle := H.le
  have hcl := cpAt_le t r s H.le
  by_cases he : er = 0
  · subst he
    by_cases h3 : cpAt t r s < s.size
    · refine do6 w b t r r ba 0 pl 1 (ba + r + cpAt t r s) n c s H false (fun w => (mwant_ok s t r ba pl w H.le H.small hs H.lo H.hi).mono ?_) (fun w H => (want_ok s w b t r ba pl H hs).mono ?_)
      · rintro e w' ⟨hx, ⟨h4, _⟩ | ⟨_, h4⟩⟩
        · omega
        · exact ⟨h4, hx⟩
      · rintro e w' ⟨hx, ⟨h4, _⟩ | ⟨_, h4, h5⟩⟩
        · omega
        · exact ⟨h4, h5, hx⟩
    · refine do6 w b t r (r + s.size) ba 0 pl 0 pl n c s H true (fun w => (mwant_ok s t r ba pl w H.le H.small hs H.lo H.hi).mono ?_) (fun w H => (want_ok s w b t r ba pl H hs).mono ?_)
      · rintro e w' ⟨hx, ⟨_, h4⟩ | ⟨h4, _⟩⟩
        · exact ⟨h4, hx⟩
        · omega
      · rintro e w' ⟨hx, ⟨_, h4, h5⟩ | ⟨h4, _⟩⟩
        · exact ⟨h4, h5, hx⟩
        · omega
  · exact do6 w b t r _ ba er pl _ _ n c s H _ (fun w => mwant_bad s t r ba er pl w (ne_of_er he)) (fun w H => ext_mod H (want_bad s w b t r ba er pl H (ne_of_er he)))
theorem do_until (w : World) (b : Nat) (t : ByteArray) (r : Nat) (ba er pl n c : Int) (s : ByteArray) (H : Rdr w b t r ba er pl) (hs : s.size ≤ 1099511627776) :
    Calls Try.prog 26 #[.pointer (some ⟨b, 0, none⟩), rin t r ba er pl, opv 7 n c s] w (DoEnd w b t ba) := by
  by_cases he : er = 0
  · subst he
    cases hf : findBy t s (t.size + 1) r with
    | none =>
      refine do7 w b t r r ba 0 pl 1 (ba + t.size) n c s H ⟨#[]⟩ (fun w => (muntil_ok s t r ba pl w H.le H.small hs H.lo H.hi).mono ?_) (fun w H => (until_ok s w b t r ba pl H hs).mono ?_)
      · rintro e w' ⟨hx, ⟨i, h3, _⟩ | ⟨_, h4⟩⟩
        · rw [hf] at h3; cases h3
        · exact ⟨h4, hx⟩
      · rintro e w' ⟨hx, ⟨i, h3, _⟩ | ⟨_, h4, h5⟩⟩
        · rw [hf] at h3; cases h3
        · exact ⟨h4, h5, hx⟩
    | some i =>
      refine do7 w b t r (i + s.size) ba 0 pl 0 pl n c s H (t.extract r i) (fun w => (muntil_ok s t r ba pl w H.le H.small hs H.lo H.hi).mono ?_) (fun w H => (until_ok s w b t r ba pl H hs).mono ?_)
      · rintro e w' ⟨hx, ⟨j, h3, h4⟩ | ⟨h3, _⟩⟩
        · rw [hf] at h3; cases h3; exact ⟨h4, hx⟩
        · rw [hf] at h3; cases h3
      · rintro e w' ⟨hx, ⟨j, h3, h4, h5⟩ | ⟨h3, _⟩⟩
        · rw [hf] at h3; cases h3; exact ⟨h4, h5, hx⟩
        · rw [hf] at h3; cases h3
  · exact do7 w b t r _ ba er pl _ _ n c s H _ (fun w => muntil_bad s t r ba er pl w (ne_of_er he)) (fun w H => ext_mod H (until_bad s w b t r ba er pl H (ne_of_er he)))
theorem do_fail (w : World) (b : Nat) (t : ByteArray) (r : Nat) (ba er pl n c : Int) (s : ByteArray) (H : Rdr w b t r ba er pl) :
    Calls Try.prog 26 #[.pointer (some ⟨b, 0, none⟩), rin t r ba er pl, opv 8 n c s] w (DoEnd w b t ba) := by
  by_cases he : er = 0
  · subst he
    by_cases hc : c = 0
    · subst hc
      exact do8 w b t r _ ba 0 pl _ _ n 0 s H (fun w => (mfail_none t r ba pl n w).mono fun e w' ⟨h1, h2⟩ => ⟨h1, by rw [← h2]; exact ((Ext.refl _).alloc _).alloc _⟩) (fun w H => ext_mod H (fail_none n w b t r ba pl H))
    · have hc1 : (c == 0) = false := by rw [beq_eq_false_iff_ne]; exact hc
      exact do8 w b t r _ ba 0 pl _ _ n c s H (fun w => mfail_ext t r ba pl c n w hc1 (ne_of_er hc)) (fun w H => fail_ok c n w b t r ba pl H hc1)
  · have he1 : (er == 0) = false := by rw [beq_eq_false_iff_ne]; exact he
    exact do8 w b t r _ ba er pl _ _ n c s H (fun w => (mfail_bad t r ba er pl c n w he1).mono fun e w' ⟨h1, h2⟩ => ⟨h1, by rw [← h2]; exact ((Ext.refl _).alloc _).alloc _⟩) (fun w H => ext_mod H (fail_bad c n w b t r ba er pl H (ne_of_er he)))
theorem do_any (w : World) (b : Nat) (t : ByteArray) (r : Nat) (ba er pl k n c : Int) (s : ByteArray) (H : Rdr w b t r ba er pl) (hs : s.size ≤ 1099511627776) :
    Calls Try.prog 26 #[.pointer (some ⟨b, 0, none⟩), rin t r ba er pl, opv k n c s] w (DoEnd w b t ba) := by
  by_cases h : k < 0 ∨ 8 < k
  · exact do9 w b t r ba er pl k n c s H h
  · have hk : k = 0 ∨ k = 1 ∨ k = 2 ∨ k = 3 ∨ k = 4 ∨ k = 5 ∨ k = 6 ∨ k = 7 ∨ k = 8 := by omega
    rcases hk with rfl | rfl | rfl | rfl | rfl | rfl | rfl | rfl | rfl
    · exact do_take w b t r ba er pl n c s H
    · exact do_rest w b t r ba er pl n c s H
    · exact do_peek w b t r ba er pl n c s H
    · exact do_big w b t r ba er pl n c s H
    · exact do_small w b t r ba er pl n c s H
    · exact do_safe w b t r ba er pl n c s H
    · exact do_want w b t r ba er pl n c s H hs
    · exact do_until w b t r ba er pl n c s H hs
    · exact do_fail w b t r ba er pl n c s H
end Go.Proofs.Ytdegnjbpjffgmaa
