/-
  Contracts of package octet: Want (for seats that need it alone).
-/
import Derived.Test.YtbdjncnofpbkkaaOct3
import Derived.BigQuiet
import Derived.Deep.QuietTactic
namespace Go.Proofs.Ytbdjncnofpbkkaa
open Go Go.ChangeShapes Go.WideShapes Go.ChangeAt Go.RowKit
set_option linter.unusedSimpArgs false
set_option linter.unusedVariables false

/-- How many bytes two texts have in common at their beginnings. -/
def cp : List UInt8 → List UInt8 → Nat
  | a :: l, b :: m => if a = b then cp l m + 1 else 0
  | _, _ => 0
theorem cp_le1 : ∀ l m : List UInt8, cp l m ≤ l.length
  | [], _ => by simp [cp]
  | _ :: _, [] => by simp [cp]
  | a :: l, b :: m => by
    simp only [cp]
    split
    · simpa using cp_le1 l m
    · simp
theorem cp_le2 : ∀ l m : List UInt8, cp l m ≤ m.length
  | [], _ => by simp [cp]
  | _ :: _, [] => by simp [cp]
  | a :: l, b :: m => by
    simp only [cp]
    split
    · simpa using cp_le2 l m
    · simp
theorem cp_iff : ∀ (l m : List UInt8) (k : Nat), k ≤ l.length → k ≤ m.length → (k ≤ cp l m ↔ l.take k = m.take k)
  | _, _, 0, _, _ => by simp
  | [], _, k + 1, h, _ => by simp at h
  | _ :: _, [], k + 1, _, h => by simp at h
  | a :: l, b :: m, k + 1, h1, h2 => by
    simp only [cp, List.take_succ_cons, List.cons.injEq]
    split
    · rename_i e
      have := cp_iff l m k (by simpa using h1) (by simpa using h2)
      simp [e, this]
    · rename_i e
      simp [e]
theorem cp_get : ∀ (l m : List UInt8) (k : Nat) (h1 : k < l.length) (h2 : k < m.length), k ≤ cp l m → (k + 1 ≤ cp l m ↔ l[k] = m[k])
  | [], _, k, h, _, _ => by simp at h
  | _ :: _, [], k, _, h, _ => by simp at h
  | a :: l, b :: m, 0, _, _, _ => by
    simp only [cp]
    split <;> simp_all
  | a :: l, b :: m, k + 1, h1, h2, h3 => by
    simp only [cp] at h3 ⊢
    split
    · rename_i e
      rw [if_pos e] at h3
      have := cp_get l m k (by simpa using h1) (by simpa using h2) (by omega)
      simpa using this
    · rename_i e
      rw [if_neg e] at h3
      omega
/-- How many bytes of s stand in t from place r on. -/
def cpAt (t : ByteArray) (r : Nat) (s : ByteArray) : Nat := cp (t.data.toList.drop r) s.data.toList
theorem cpAt_le (t : ByteArray) (r : Nat) (s : ByteArray) (h : r ≤ t.size) : r + cpAt t r s ≤ t.size ∧ cpAt t r s ≤ s.size := by
  have h1 := cp_le1 (t.data.toList.drop r) s.data.toList
  have h2 := cp_le2 (t.data.toList.drop r) s.data.toList
  unfold cpAt
  simp at h1 h2
  have e : t.data.size = t.size := rfl
  have e2 : s.data.size = s.size := rfl
  omega
theorem cpAt_get (t : ByteArray) (r : Nat) (s : ByteArray) (k : Nat) (h1 : r + k < t.size) (h2 : k < s.size) (h : k ≤ cpAt t r s) : k + 1 ≤ cpAt t r s ↔ t[r + k] = s[k] := by
  have h3 : k < (t.data.toList.drop r).length := by
    have e : t.data.size = t.size := rfl
    simp; omega
  have h4 : k < s.data.toList.length := h2
  have := cp_get (t.data.toList.drop r) s.data.toList k h3 h4 h
  unfold cpAt
  rw [this, List.getElem_drop]
  rfl
theorem extract_get (t : ByteArray) (r n k : Nat) (h1 : k < n) (h2 : r + n ≤ t.size) : ∀ q, q = t.extract r (r + n) → ∀ h : k < q.size, q[k] = t[r + k] := by
  rintro q rfl h
  exact ByteArray.getElem_extract h
/-- What Want comes to, of a reader without a fault. -/
def WantEnd (w : World) (b : Nat) (t : ByteArray) (r : Nat) (ba pl : Int) (s : ByteArray) (e : Ending) (w' : World) : Prop :=
  Mod b w w' ∧ ((cpAt t r s = s.size ∧ e = .returned (.bool true) ∧ Rdr w' b t (r + s.size) ba 0 pl) ∨ (cpAt t r s < s.size ∧ e = .returned (.bool false) ∧ Rdr w' b t r ba 1 (ba + r + cpAt t r s)))
theorem peek_some (n : Int) (w : World) (b : Nat) (t : ByteArray) (r : Nat) (ba pl : Int) (H : Rdr w b t r ba 0 pl) : Calls Try.prog 48 #[.pointer (some ⟨b, 0, none⟩), .int .i64 n] w fun e w' => ∃ s : ByteArray, Hid (s = t.extract r (r + (shown n (t.size - r)).toNat)) ∧ Hid (s.size = (shown n (t.size - r)).toNat) ∧ e = .returned (.string s) ∧ Ext w w' := by
  refine (peek_ok n w b t r ba pl H).mono ?_
  rintro e w' ⟨rfl, h1⟩
  refine ⟨_, rfl, ?_, rfl, h1⟩
  show (t.extract r (r + (shown n (t.size - r)).toNat)).size = _
  have := H.le
  have h3 := @shown_le n (t.size - r)
  simp; omega
set_option maxRecDepth 100000 in
set_option maxHeartbeats 400000 in
theorem want_ok (s : ByteArray) (w : World) (b : Nat) (t : ByteArray) (r : Nat) (ba pl : Int) (H : Rdr w b t r ba 0 pl) (hs : s.size ≤ 1099511627776) : Calls Try.prog 32 #[.pointer (some ⟨b, 0, none⟩), .string s] w (WantEnd w b t r ba pl s) := by
  have hb0 := H.lo
  have hb1 := H.hi
  have hb2 := H.le
  have hb3 := H.small
  go_enter Try.func32, Try.ntmps32
  go_wp2_with (first | (go_at_call 48; refine (peek_some _ _ _ _ _ _ _ H).mono ?_; rintro e w1 ⟨q, HS, HZ, rfl, hb1⟩))
  have hqs : q.size ≤ s.size ∧ (q.size : Int) ≤ t.size - r := by have := HZ.out; unfold shown at this; omega
  obtain ⟨hq1, hq2⟩ := hqs
  go_loopw [13] (fun i wr => ∃ k : Nat, k ≤ q.size ∧ k ≤ cpAt t r s ∧ i = .int .i64 k ∧ Ext w wr) (fun i _ => q.size - (intOf i).toNat)
  case atStart => exact ⟨0, Nat.zero_le _, Nat.zero_le _, rfl, hb1⟩
  case round =>
    obtain ⟨k, hk, hkc, rfl, hx⟩ := hrel
    have HR := H.ext hx
    by_cases hlt : k < q.size
    · have hi0 : (0 : Int) ≤ k := by omega
      have hi1 : (k : Int) < q.size := by omega
      have hi2 : (k : Int) < s.size := by omega
      go_wp2
      go_quiet (fail)
      have HD := HR.drewN nq
      go_wp2_with (first | (go_at_call 50; refine (at_any _ _ _ _ _ _ _ HD).mono ?_; rintro e w5 ⟨rfl, hb5⟩; have H5 := HD.ext hb5) | (go_at_call 49; refine (fail_ok _ _ _ _ _ _ _ _ H5 (by decide)).mono ?_; rintro e w6 ⟨rfl, H6, hm6⟩))
      · go_ret
        have hne : ((q[k].toNat : Int) != (s[k].toNat : Int)) = true := by assumption
        have hqk := extract_get t r _ k (by have := HZ.out; omega) (by have := HZ.out; omega) q HS.out hlt
        have hc : ¬ k + 1 ≤ cpAt t r s := by
          rw [cpAt_get t r s k (by omega) (by omega) hkc, ← hqk]
          intro h
          rw [h] at hne
          simp at hne
        have e : cpAt t r s = k := by omega
        exact ⟨(Mod.of (hx.drewN nq)).trans ((Mod.of hb5).trans hm6), .inr ⟨by omega, rfl, by rw [e]; exact H6⟩⟩
      · go_roundw
        case rel =>
          have hne : ((q[k].toNat : Int) != (s[k].toNat : Int)) = false := by assumption
          have hqk := extract_get t r _ k (by have := HZ.out; omega) (by have := HZ.out; omega) q HS.out hlt
          have hc : k + 1 ≤ cpAt t r s := by
            rw [cpAt_get t r s k (by omega) (by omega) hkc, ← hqk]
            simp at hne
            exact UInt8.toNat_inj.1 (by omega)
          exact ⟨k + 1, by omega, hc, by go_num, hx.drewN nq⟩
        case measure => simp [intOf]; omega
    · have hcl := cpAt_le t r s H.le
      have hkq : k = q.size := by omega
      by_cases hle : (s.size : Int) ≤ t.size - r
      · go_wp2_with (first | (go_at_call 34; refine (take_ok _ _ _ _ _ _ _ HR (by omega) hle).mono ?_; rintro e w5 ⟨rfl, H5, hm5⟩) | (go_at_call 51; refine (fault_at _ _ _ _ _ _ _ H5).mono ?_; rintro e w6 ⟨rfl, hb6⟩; have H6 := H5.ext hb6) | (go_at_call 26; refine (bad_no _ _ _ (by decide)).mono ?_; rintro e w7 ⟨rfl, hb7⟩; have H7 := H6.ext hb7))
        go_ret
        have hz := HZ.out
        unfold shown at hz
        exact ⟨(Mod.of hx).trans (hm5.trans (Mod.of (hb6.trans hb7))), .inl ⟨by omega, rfl, H7⟩⟩
      · go_wp2_with (first | (go_at_call 34; refine (take_short _ _ _ _ _ _ _ HR (by omega) (by omega)).mono ?_; rintro e w5 ⟨rfl, H5, hm5⟩) | (go_at_call 51; refine (fault_at _ _ _ _ _ _ _ H5).mono ?_; rintro e w6 ⟨rfl, hb6⟩; have H6 := H5.ext hb6) | (go_at_call 26; refine (bad_yes _ _ _ (by decide)).mono ?_; rintro e w7 ⟨rfl, hb7⟩; have H7 := H6.ext hb7))
        go_ret
        have hz := HZ.out
        unfold shown at hz
        have e : ba + r + cpAt t r s = ba + t.size := by omega
        exact ⟨(Mod.of hx).trans (hm5.trans (Mod.of (hb6.trans hb7))), .inr ⟨by omega, rfl, by rw [e]; exact H7⟩⟩
end Go.Proofs.Ytbdjncnofpbkkaa
