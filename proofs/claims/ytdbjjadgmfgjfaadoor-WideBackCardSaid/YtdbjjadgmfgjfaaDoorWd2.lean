/-
  Contracts of package wide (2): a sign that is read.
-/
import Derived.Test.YtdbjjadgmfgjfaaDoorWd1
namespace Go.Proofs.YtdbjjadgmfgjfaaDoor
open Go Go.ChangeShapes Go.WideShapes Go.ChangeAt Go.RowKit
set_option linter.unusedSimpArgs false
set_option linter.unusedVariables false

theorem scalar_yes (p : Int) (h : isSign p = true) (w : World) : Calls Tryd.prog 47 #[.int .i32 p] w fun e w' => e = .returned (.bool true) ∧ w = w' := by
  have := scalar_any p w
  rwa [h] at this
theorem scalar_no (p : Int) (h : isSign p = false) (w : World) : Calls Tryd.prog 47 #[.int .i32 p] w fun e w' => e = .returned (.bool false) ∧ w = w' := by
  have := scalar_any p w
  rwa [h] at this
theorem half_at {u f : Int} {c : Bool} (h : half u f = c) (hu : -1 ≤ u ∧ u < 65536) (hf : 0 ≤ f ∧ f < 65536) (w : World) : Calls Tryd.prog 48 #[.int .i32 u, .int .i32 f] w fun e w' => e = .returned (.bool c) ∧ w = w' := by
  have := half_any u f w hu hf
  rwa [h] at this
theorem sign_one (big : Bool) (w : World) (b : Nat) (t : ByteArray) (r : Nat) (ba pl : Int) (H : Rdr w b t r ba 0 pl) (hn : r + 2 ≤ t.size) (hs : isSign (unAt big t r) = true) : Calls Tryd.prog 32 #[.pointer (some ⟨b, 0, none⟩), .bool big] w fun e w' => e = .returned (.int .i32 (unAt big t r)) ∧ Rdr w' b t (r + 2) ba 0 pl ∧ Mod b w w' := by
  have HU := Lib.hid (fun w H => unit_ok big w b t r ba pl H hn)
  have HS := Lib.hid (fun w => scalar_yes _ hs w)
  clear hs
  generalize unAt big t r = n at HU HS
  go_enter Tryd.func32, Tryd.ntmps32
  go_wp2_with (first | (go_at_call 45; refine (at_any _ _ _ _ _ _ _ H).mono ?_; rintro e w1 ⟨rfl, hb1⟩; have H1 := H.ext hb1) | (go_at_call 46; refine (HU.out _ H1).mono ?_; rintro e w2 ⟨rfl, H2, hm⟩) | (go_at_call 47; refine (HS.out _).mono ?_; rintro e w3 ⟨rfl, rfl⟩))
  go_ret
  exact ⟨rfl, H2, (Mod.of hb1).trans hm⟩
set_option maxHeartbeats 400000 in
theorem sign_two (big : Bool) (w : World) (b : Nat) (t : ByteArray) (r : Nat) (ba pl : Int) (H : Rdr w b t r ba 0 pl) (hn : r + 4 ≤ t.size) (h1 : isHi (unAt big t r) = true) (h2 : isLo (unAt big t (r + 2)) = true) : Calls Tryd.prog 32 #[.pointer (some ⟨b, 0, none⟩), .bool big] w fun e w' => e = .returned (.int .i32 (pairOf (unAt big t r) (unAt big t (r + 2)))) ∧ Rdr w' b t (r + 4) ba 0 pl ∧ Mod b w w' := by
  have HU := Lib.hid (fun w H => unit_ok big w b t r ba pl H (by omega))
  have HV := Lib.hid (fun w H => unit_ok big w b t (r + 2) ba pl H (by omega))
  have hs := hi_not h1
  have HS := Lib.hid (fun w => scalar_no _ hs w)
  have g1 := (isHi_iff _).1 h1
  have g2 := (isLo_iff _).1 h2
  have HA := Lib.hid (fun w => half_at ((half_hi _).trans h1) (by omega) (by decide) w)
  have HB := Lib.hid (fun w => half_at ((half_lo _).trans h2) (by omega) (by decide) w)
  clear hs h1 h2
  generalize unAt big t r = m at HU HS HA g1
  generalize unAt big t (r + 2) = n at HV HB g2
  go_enter Tryd.func32, Tryd.ntmps32
  go_wp2_with (first | (go_at_call 45; refine (at_any _ _ _ _ _ _ _ H).mono ?_; rintro e w1 ⟨rfl, hb1⟩; have H1 := H.ext hb1; clear H) | (go_at_call 46; refine (HU.out _ H1).mono ?_; rintro e w2 ⟨rfl, H2, hm⟩; clear H1) | (go_at_call 46; refine (HV.out _ H2).mono ?_; rintro e w3 ⟨rfl, H3, hm3⟩; clear H2) | (go_at_call 47; refine (HS.out _).mono ?_; rintro e wx ⟨rfl, rfl⟩) | (go_at_call 48; refine (HA.out _).mono ?_; rintro e wx ⟨rfl, rfl⟩; clear HA) | (go_at_call 48; refine (HB.out _).mono ?_; rintro e wx ⟨rfl, rfl⟩))
  go_ret
  refine ⟨?_, H3, (Mod.of hb1).trans (hm.trans hm3)⟩
  unfold pairOf
  congr 2
/-- A sign that isn't there: one unit, or none, or two that aren't one's. -/
theorem sign_none (big : Bool) (w : World) (b : Nat) (t : ByteArray) (r : Nat) (ba pl : Int) (H : Rdr w b t r ba 0 pl) (hn : (t.size : Int) - r < 2) : Calls Tryd.prog 32 #[.pointer (some ⟨b, 0, none⟩), .bool big] w fun e w' => e = .returned (.int .i32 0) ∧ Rdr w' b t r ba 2 (ba + r) ∧ Mod b w w' := by
  have HU := Lib.hid (fun w H => unit_none big w b t r ba pl H hn)
  have HS := Lib.hid (fun w => scalar_no (-1) (by decide) w)
  have HA := Lib.hid (fun w => half_at (u := -1) (f := 55296) (c := false) (by decide) (by decide) (by decide) w)
  go_enter Tryd.func32, Tryd.ntmps32
  go_wp2_with (first | (go_at_call 45; refine (at_any _ _ _ _ _ _ _ H).mono ?_; rintro e w1 ⟨rfl, hb1⟩; have H1 := H.ext hb1; clear H) | (go_at_call 46; refine (HU.out _ H1).mono ?_; rintro e w2 ⟨rfl, hb2⟩; have H2 := H1.ext hb2; clear H1) | (go_at_call 46; refine (HU.out _ H2).mono ?_; rintro e w3 ⟨rfl, hb3⟩; have H3 := H2.ext hb3; clear H2) | (go_at_call 47; refine (HS.out _).mono ?_; rintro e wx ⟨rfl, rfl⟩) | (go_at_call 48; refine (HA.out _).mono ?_; rintro e wx ⟨rfl, rfl⟩) | (go_at_call 49; refine (fail_ok _ _ _ _ _ _ _ _ H3 (by decide)).mono ?_; rintro e w4 ⟨rfl, H4, hm4⟩))
  go_ret
  exact ⟨rfl, H4, (Mod.of ((hb1.trans hb2).trans hb3)).trans hm4⟩
theorem sign_half (big : Bool) (w : World) (b : Nat) (t : ByteArray) (r : Nat) (ba pl : Int) (H : Rdr w b t r ba 0 pl) (hn : r + 2 ≤ t.size) (hn2 : (t.size : Int) - (r + 2 : Nat) < 2) (hs : isSign (unAt big t r) = false) : Calls Tryd.prog 32 #[.pointer (some ⟨b, 0, none⟩), .bool big] w fun e w' => e = .returned (.int .i32 0) ∧ Rdr w' b t (r + 2) ba 2 (ba + r) ∧ Mod b w w' := by
  have HU := Lib.hid (fun w H => unit_ok big w b t r ba pl H hn)
  have HV := Lib.hid (fun w H => unit_none big w b t (r + 2) ba pl H hn2)
  have HS := Lib.hid (fun w => scalar_no _ hs w)
  have hlt := unAt_lt big t r
  obtain ⟨c, hc⟩ : ∃ c, half (unAt big t r) 55296 = c := ⟨_, rfl⟩
  have HA := Lib.hid (fun w => half_at hc (by omega) (by decide) w)
  have HB := Lib.hid (fun w => half_at (u := -1) (f := 56320) (c := false) (by decide) (by decide) (by decide) w)
  clear hs hc hn2 hn
  generalize unAt big t r = m at HU HS HA hlt
  cases c
  · go_enter Tryd.func32, Tryd.ntmps32
    go_wp2_with (first | (go_at_call 45; refine (at_any _ _ _ _ _ _ _ H).mono ?_; rintro e w1 ⟨rfl, hb1⟩; have H1 := H.ext hb1; clear H) | (go_at_call 46; refine (HU.out _ H1).mono ?_; rintro e w2 ⟨rfl, H2, hm2⟩; clear H1) | (go_at_call 46; refine (HV.out _ H2).mono ?_; rintro e w3 ⟨rfl, hb3⟩; have H3 := H2.ext hb3; clear H2) | (go_at_call 47; refine (HS.out _).mono ?_; rintro e wx ⟨rfl, rfl⟩) | (go_at_call 48; refine (HA.out _).mono ?_; rintro e wx ⟨rfl, rfl⟩; clear HA) | (go_at_call 48; refine (HB.out _).mono ?_; rintro e wx ⟨rfl, rfl⟩) | (go_at_call 49; refine (fail_ok _ _ _ _ _ _ _ _ H3 (by decide)).mono ?_; rintro e w4 ⟨rfl, H4, hm4⟩))
    go_ret
    exact ⟨rfl, H4, ((Mod.of hb1).trans hm2).trans ((Mod.of hb3).trans hm4)⟩
  · go_enter Tryd.func32, Tryd.ntmps32
    go_wp2_with (first | (go_at_call 45; refine (at_any _ _ _ _ _ _ _ H).mono ?_; rintro e w1 ⟨rfl, hb1⟩; have H1 := H.ext hb1; clear H) | (go_at_call 46; refine (HU.out _ H1).mono ?_; rintro e w2 ⟨rfl, H2, hm2⟩; clear H1) | (go_at_call 46; refine (HV.out _ H2).mono ?_; rintro e w3 ⟨rfl, hb3⟩; have H3 := H2.ext hb3; clear H2) | (go_at_call 47; refine (HS.out _).mono ?_; rintro e wx ⟨rfl, rfl⟩) | (go_at_call 48; refine (HA.out _).mono ?_; rintro e wx ⟨rfl, rfl⟩; clear HA) | (go_at_call 48; refine (HB.out _).mono ?_; rintro e wx ⟨rfl, rfl⟩) | (go_at_call 49; refine (fail_ok _ _ _ _ _ _ _ _ H3 (by decide)).mono ?_; rintro e w4 ⟨rfl, H4, hm4⟩))
    go_ret
    exact ⟨rfl, H4, ((Mod.of hb1).trans hm2).trans ((Mod.of hb3).trans hm4)⟩
theorem sign_no (big : Bool) (w : World) (b : Nat) (t : ByteArray) (r : Nat) (ba pl : Int) (H : Rdr w b t r ba 0 pl) (hn : r + 4 ≤ t.size) (hs : isSign (unAt big t r) = false) (hh : (isHi (unAt big t r) && isLo (unAt big t (r + 2))) = false) : Calls Tryd.prog 32 #[.pointer (some ⟨b, 0, none⟩), .bool big] w fun e w' => e = .returned (.int .i32 0) ∧ Rdr w' b t (r + 4) ba 2 (ba + r) ∧ Mod b w w' := by
  have HU := Lib.hid (fun w H => unit_ok big w b t r ba pl H (by omega))
  have HV := Lib.hid (fun w H => unit_ok big w b t (r + 2) ba pl H (by omega))
  have HS := Lib.hid (fun w => scalar_no _ hs w)
  have hlt := unAt_lt big t r
  have hlt2 := unAt_lt big t (r + 2)
  obtain ⟨c, hc⟩ : ∃ c, isHi (unAt big t r) = c := ⟨_, rfl⟩
  obtain ⟨d, hd⟩ : ∃ d, isLo (unAt big t (r + 2)) = d := ⟨_, rfl⟩
  rw [hc, hd] at hh
  have HA := Lib.hid (fun w => half_at ((half_hi _).trans hc) (by omega) (by decide) w)
  have HB := Lib.hid (fun w => half_at ((half_lo _).trans hd) (by omega) (by decide) w)
  clear hs hc hd hn
  generalize unAt big t r = m at HU HS HA hlt
  generalize unAt big t (r + 2) = n at HV HB hlt2
  cases c
  · clear hh
    go_enter Tryd.func32, Tryd.ntmps32
    go_wp2_with (first | (go_at_call 45; refine (at_any _ _ _ _ _ _ _ H).mono ?_; rintro e w1 ⟨rfl, hb1⟩; have H1 := H.ext hb1; clear H) | (go_at_call 46; refine (HU.out _ H1).mono ?_; rintro e w2 ⟨rfl, H2, hm2⟩; clear H1) | (go_at_call 46; refine (HV.out _ H2).mono ?_; rintro e w3 ⟨rfl, H3, hm3⟩; clear H2) | (go_at_call 47; refine (HS.out _).mono ?_; rintro e wx ⟨rfl, rfl⟩) | (go_at_call 48; refine (HA.out _).mono ?_; rintro e wx ⟨rfl, rfl⟩; clear HA) | (go_at_call 48; refine (HB.out _).mono ?_; rintro e wx ⟨rfl, rfl⟩) | (go_at_call 49; refine (fail_ok _ _ _ _ _ _ _ _ H3 (by decide)).mono ?_; rintro e w4 ⟨rfl, H4, hm4⟩))
    go_ret
    exact ⟨rfl, H4, ((Mod.of hb1).trans hm2).trans (hm3.trans hm4)⟩
  · cases d
    · clear hh
      go_enter Tryd.func32, Tryd.ntmps32
      go_wp2_with (first | (go_at_call 45; refine (at_any _ _ _ _ _ _ _ H).mono ?_; rintro e w1 ⟨rfl, hb1⟩; have H1 := H.ext hb1; clear H) | (go_at_call 46; refine (HU.out _ H1).mono ?_; rintro e w2 ⟨rfl, H2, hm2⟩; clear H1) | (go_at_call 46; refine (HV.out _ H2).mono ?_; rintro e w3 ⟨rfl, H3, hm3⟩; clear H2) | (go_at_call 47; refine (HS.out _).mono ?_; rintro e wx ⟨rfl, rfl⟩) | (go_at_call 48; refine (HA.out _).mono ?_; rintro e wx ⟨rfl, rfl⟩; clear HA) | (go_at_call 48; refine (HB.out _).mono ?_; rintro e wx ⟨rfl, rfl⟩) | (go_at_call 49; refine (fail_ok _ _ _ _ _ _ _ _ H3 (by decide)).mono ?_; rintro e w4 ⟨rfl, H4, hm4⟩))
      go_ret
      exact ⟨rfl, H4, ((Mod.of hb1).trans hm2).trans (hm3.trans hm4)⟩
    · cases hh
/-- What a reader has left, as signs. -/
def wdAt (big : Bool) (t : ByteArray) (r : Nat) : List Int × Int := wd big r (t.data.toList.drop r)
/-- What became of a reader, of which a sign was to be read: it stands behind it; or it has a fault, where it stood. -/
def SignTo (big : Bool) (t : ByteArray) (r : Nat) (p : Int) (r' : Nat) (er pl : Int) : Prop :=
  (er = 0 ∧ r < r' ∧ wdAt big t r = (p :: (wdAt big t r').1, (wdAt big t r').2)) ∨ (er = 2 ∧ pl = r ∧ wdAt big t r = ([], (r : Int)))
theorem sign_any (big : Bool) (w : World) (b : Nat) (t : ByteArray) (r : Nat) (pl : Int) (H : Rdr w b t r 0 0 pl) (hr : r < t.size) : Calls Tryd.prog 32 #[.pointer (some ⟨b, 0, none⟩), .bool big] w fun e w' => ∃ (p : Int) (r' : Nat) (er pl' : Int), e = .returned (.int .i32 p) ∧ Rdr w' b t r' 0 er pl' ∧ Mod b w w' ∧ Hid (SignTo big t r p r' er pl') := by
  have hl : t.data.toList.length = t.size := rfl
  have hlen : (t.data.toList.drop r).length = t.size - r := by rw [List.length_drop]; rfl
  refine wd_cases big r (t.data.toList.drop r) (fun e => ?_) (fun x e => ?_) (fun x y l e h => ?_) (fun x y x2 y2 l e h h1 h2 => ?_) (fun x y x2 y2 l e h h1 => ?_) (fun x y l e h h1 => ?_)
  · rw [e] at hlen; simp at hlen; omega
  · rw [e] at hlen
    simp at hlen
    refine (sign_none big w b t r 0 pl H (by omega)).mono ?_
    rintro e' w' ⟨rfl, h1, h2⟩
    exact ⟨0, r, 2, _, rfl, h1, h2, .inr ⟨rfl, by omega, by unfold wdAt; rw [e, wd_one]⟩⟩
  · rw [e] at hlen
    simp at hlen
    have hu : unAt big t r = un big x y := unAt_of e
    have hd : t.data.toList.drop (r + 2) = l := by
      obtain ⟨x', y', e2⟩ := drop_two (t := t) (r := r) (by omega)
      rw [e2] at e
      simp at e
      exact e.2.2
    refine (sign_one big w b t r 0 pl H (by omega) (by rw [hu]; exact h)).mono ?_
    rintro e' w' ⟨rfl, h1, h2⟩
    exact ⟨_, r + 2, 0, _, rfl, h1, h2, .inl ⟨rfl, by omega, by unfold wdAt; rw [e, wd_sign big r x y l h, hd, hu]⟩⟩
  · rw [e] at hlen
    simp at hlen
    have hu : unAt big t r = un big x y := unAt_of e
    have hd : t.data.toList.drop (r + 2) = x2 :: y2 :: l := by
      obtain ⟨x', y', e2⟩ := drop_two (t := t) (r := r) (by omega)
      rw [e2] at e
      simp at e
      exact e.2.2
    have hu2 : unAt big t (r + 2) = un big x2 y2 := unAt_of hd
    have hd2 : t.data.toList.drop (r + 4) = l := by
      obtain ⟨x', y', e2⟩ := drop_two (t := t) (r := r + 2) (by omega)
      rw [e2] at hd
      simp at hd
      exact hd.2.2
    refine (sign_two big w b t r 0 pl H (by omega) (by rw [hu]; exact h1) (by rw [hu2]; exact h2)).mono ?_
    rintro e' w' ⟨rfl, g1, g2⟩
    exact ⟨_, r + 4, 0, _, rfl, g1, g2, .inl ⟨rfl, by omega, by unfold wdAt; rw [e, wd_two big r x y x2 y2 l h h1 h2, hd2, hu, hu2]⟩⟩
  · rw [e] at hlen
    simp at hlen
    have hu : unAt big t r = un big x y := unAt_of e
    have hd : t.data.toList.drop (r + 2) = x2 :: y2 :: l := by
      obtain ⟨x', y', e2⟩ := drop_two (t := t) (r := r) (by omega)
      rw [e2] at e
      simp at e
      exact e.2.2
    have hu2 : unAt big t (r + 2) = un big x2 y2 := unAt_of hd
    refine (sign_no big w b t r 0 pl H (by omega) (by rw [hu]; exact h) (by rw [hu, hu2]; exact h1)).mono ?_
    rintro e' w' ⟨rfl, g1, g2⟩
    exact ⟨0, r + 4, 2, _, rfl, g1, g2, .inr ⟨rfl, by omega, by unfold wdAt; rw [e, wd_no big r x y x2 y2 l h h1]⟩⟩
  · rw [e] at hlen
    simp at hlen
    have hu : unAt big t r = un big x y := unAt_of e
    refine (sign_half big w b t r 0 pl H (by omega) (by omega) (by rw [hu]; exact h)).mono ?_
    rintro e' w' ⟨rfl, g1, g2⟩
    exact ⟨0, r + 2, 2, _, rfl, g1, g2, .inr ⟨rfl, by omega, by unfold wdAt; rw [e, wd_end big r x y l h h1]⟩⟩
end Go.Proofs.YtdbjjadgmfgjfaaDoor
