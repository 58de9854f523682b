/-
  Pieces in memory; which are light; the document's pairs of pieces, or the first that is refused.
-/
import Derived.Test.YtealeedbkjiabaaDoorRn3
namespace Go.Proofs.YtealeedbkjiabaaDoor
open Go Go.ChangeShapes Go.WideShapes Go.ChangeAt Go.RowKit
set_option linter.unusedSimpArgs false
set_option linter.unusedVariables false

/-- A piece: its first code, its first sign's number, how many, its text. -/
structure Pv where
  f : Int
  t : Int
  c : Int
  x : ByteArray
/-- A list of pieces: none, or in memory. -/
def IsPieces (w : World) (a : Option Addr) (len cap : Nat) (l : List Pv) : Prop :=
  l.length = len ∧ (len = 0 ∨ ∃ (x off : Nat), a = some ⟨x, off, none⟩ ∧ len ≤ cap ∧ x < w.heap.size ∧ ∀ (j : Nat) (p : Pv), l[j]? = some p → w.cell? ⟨x, off + j * 4, none⟩ = some (.int .i64 p.f) ∧ w.cell? ⟨x, off + j * 4 + 1, none⟩ = some (.int .i32 p.t) ∧ w.cell? ⟨x, off + j * 4 + 2, none⟩ = some (.int .i64 p.c) ∧ w.cell? ⟨x, off + j * 4 + 3, none⟩ = some (.string p.x))
theorem IsPieces.ext {w w' : World} {a : Option Addr} {len cap : Nat} {l : List Pv} (h : IsPieces w a len cap l) (k : Ext w w') : IsPieces w' a len cap l := by
  obtain ⟨h1, h2⟩ := h
  refine ⟨h1, ?_⟩
  rcases h2 with h2 | ⟨x, off, rfl, hc, hx, hcell⟩
  · exact .inl h2
  · refine .inr ⟨x, off, rfl, hc, Nat.lt_of_lt_of_le hx k.size, fun j z hj => ?_⟩
    obtain ⟨a0, a1, a2, a3⟩ := hcell j z hj
    exact ⟨(World.cell?_of_block (k.block x hx)).trans a0, (World.cell?_of_block (k.block x hx)).trans a1, (World.cell?_of_block (k.block x hx)).trans a2, (World.cell?_of_block (k.block x hx)).trans a3⟩
theorem piece_at {w : World} {a : Option Addr} {n cap : Nat} {l : List Pv} (h : IsPieces w a n cap l) {k : Nat} (hk : k < n) : ∃ x off p, a = some ⟨x, off, none⟩ ∧ x < w.heap.size ∧ l[k]? = some p ∧ ∀ w', Ext w w' → w'.cell? ⟨x, off + k * 4, none⟩ = some (.int .i64 p.f) ∧ w'.cell? ⟨x, off + k * 4 + 1, none⟩ = some (.int .i32 p.t) ∧ w'.cell? ⟨x, off + k * 4 + 2, none⟩ = some (.int .i64 p.c) ∧ w'.cell? ⟨x, off + k * 4 + 3, none⟩ = some (.string p.x) := by
  have h0 := h
  obtain ⟨h1, h2⟩ := h
  rcases h2 with h2 | ⟨x, off, rfl, hc, hx, hcell⟩
  · omega
  · have e : l[k]? = some l[k] := by simp
    refine ⟨x, off, l[k], rfl, hx, e, fun w' hxx => ?_⟩
    obtain ⟨a0, a1, a2, a3⟩ := hcell k _ e
    exact ⟨(World.cell?_of_block (hxx.block x hx)).trans a0, (World.cell?_of_block (hxx.block x hx)).trans a1, (World.cell?_of_block (hxx.block x hx)).trans a2, (World.cell?_of_block (hxx.block x hx)).trans a3⟩
/-- Is a piece light? -/
def lightOne (p : Pv) : Bool := decide (p.c ≤ 100) && decide (p.x.size ≤ 300)
theorem lightOne_iff (p : Pv) : lightOne p = true ↔ p.c ≤ 100 ∧ p.x.size ≤ 300 := by simp [lightOne]
def lightP (l : List Pv) : Bool := decide (l.length ≤ 12) && l.all lightOne
theorem light_many (a : Option Addr) (cap : Nat) (l : List Pv) (w : World) (h : 12 < l.length) :
    Calls Tryd.prog 12 #[.slice a l.length cap] w fun e w' => e = .returned (.bool false) ∧ Ext w w' := by
  have h2 : (12 : Int) < l.length := by omega
  go_enter Tryd.func12, Tryd.ntmps12
  go_wp2
  go_ret
  exact ⟨rfl, Ext.refl _⟩
set_option maxRecDepth 100000 in
set_option maxHeartbeats 1000000 in
theorem light_any (a : Option Addr) (cap : Nat) (l : List Pv) (w : World) (h : IsPieces w a l.length cap l) (hl : l.length ≤ 12) :
    Calls Tryd.prog 12 #[.slice a l.length cap] w fun e w' => e = .returned (.bool (l.all lightOne)) ∧ Ext w w' := by
  have h2 : ¬ (12 : Int) < l.length := by omega
  go_enter Tryd.func12, Tryd.ntmps12
  go_wp2
  go_loopw [10] (fun i wr => ∃ k : Nat, k ≤ l.length ∧ i = .int .i64 k ∧ Ext w wr ∧ Hid (∀ (i : Nat) (p : Pv), i < k → l[i]? = some p → lightOne p = true)) (fun i _ => l.length - (intOf i).toNat)
  case atStart => exact ⟨0, by omega, rfl, Ext.refl _, fun i p h => by omega⟩
  case round =>
    obtain ⟨k, hk, rfl, hx, HN⟩ := hrel
    by_cases hlt : k < l.length
    · obtain ⟨x, off, p, rfl, hxl, hp, hcell⟩ := piece_at h hlt
      obtain ⟨c0, c1, c2, c3⟩ := hcell wr hx
      have HP := Lib.hid hp
      clear hcell hp
      by_cases h1 : 100 < p.c
      · have HF : Hid (l.all lightOne = false) := by
          show _ = _
          rw [List.all_eq_false]
          exact ⟨p, List.mem_of_getElem? HP.out, by simp [lightOne]; omega⟩
        generalize p.c = pc at c2 h1
        go_wp2
        go_ret
        exact ⟨by rw [HF.out]; rfl, hx.alloc _⟩
      · by_cases h3 : (300 : Int) < p.x.size
        · have HF : Hid (l.all lightOne = false) := by
            show _ = _
            rw [List.all_eq_false]
            exact ⟨p, List.mem_of_getElem? HP.out, by simp [lightOne]; omega⟩
          generalize p.c = pc at c2 h1
          generalize p.x = px at c3 h3
          go_wp2
          go_ret
          exact ⟨by rw [HF.out]; rfl, hx.alloc _⟩
        · have HL : Hid (lightOne p = true) := (lightOne_iff p).2 ⟨by omega, by omega⟩
          generalize p.c = pc at c2 h1
          generalize p.x = px at c3 h3
          go_wp2
          go_roundw
          case rel =>
            refine ⟨k + 1, by omega, by go_num, hx.alloc _, fun i r hi hr => ?_⟩
            by_cases e : i = k
            · subst e
              rw [HP.out] at hr
              cases hr
              exact HL.out
            · exact HN.out i r (by omega) hr
          case measure => simp [intOf]; omega
    · have HF : Hid (l.all lightOne = true) := by
        show _ = _
        rw [List.all_eq_true]
        intro p hp
        obtain ⟨i, hi⟩ := List.getElem?_of_mem hp
        exact HN.out i p (by have := (List.getElem?_eq_some_iff.1 hi).1; omega) hi
      go_wp2
      go_ret
      exact ⟨by rw [HF.out]; rfl, hx⟩
theorem light_row {w : World} {a : Option Addr} {len cap : Nat} {l : List Pv} (h : IsPieces w a len cap l) :
    Calls Tryd.prog 12 #[.slice a len cap] w fun e w' => e = .returned (.bool (lightP l)) ∧ Ext w w' := by
  have h0 := h
  obtain ⟨rfl, _⟩ := h
  unfold lightP
  by_cases h1 : l.length ≤ 12
  · have := light_any a cap l w h0 h1
    rwa [show (decide (l.length ≤ 12) && l.all lightOne) = l.all lightOne from by simp [h1]]
  · have := light_many a cap l w (by omega)
    rwa [show (decide (l.length ≤ 12) && l.all lightOne) = false from by simp [h1]]
/-- The pairs of pieces behind some pairs, or the place of the first that is refused. -/
def madeGo : List Pr → Nat → List Pv → List Pr × Int
  | all, _, [] => (all, -1)
  | all, i, v :: vs =>
    match pieceP v.f v.t v.c v.x with
    | none => ([], (i : Int))
    | some more =>
      match joinP all more with
      | none => ([], (i : Int))
      | some all2 => madeGo all2 (i + 1) vs
def madeP (vs : List Pv) : List Pr × Int := madeGo [] 0 vs
theorem madeGo_none {all : List Pr} {i : Nat} {v : Pv} {vs : List Pv} (h : pieceP v.f v.t v.c v.x = none) : madeGo all i (v :: vs) = ([], (i : Int)) := by rw [madeGo, h]
theorem madeGo_no {all more : List Pr} {i : Nat} {v : Pv} {vs : List Pv} (h : pieceP v.f v.t v.c v.x = some more) (k : joinP all more = none) : madeGo all i (v :: vs) = ([], (i : Int)) := by rw [madeGo, h]; simp only [k]
theorem madeGo_some {all more all2 : List Pr} {i : Nat} {v : Pv} {vs : List Pv} (h : pieceP v.f v.t v.c v.x = some more) (k : joinP all more = some all2) : madeGo all i (v :: vs) = madeGo all2 (i + 1) vs := by rw [madeGo, h]; simp only [k]
theorem joinP_len {l more r : List Pr} (h : joinP l more = some r) : r.length = l.length + more.length := by
  rw [← (joinP_some h).2, foldl_put_len]
theorem pieceP_len {f t c : Int} {x : ByteArray} {more : List Pr} (h : pieceP f t c x = some more) (hc : c ≤ 100) (hx : x.size ≤ 300) : more.length ≤ 300 := by
  unfold pieceP at h
  split at h
  · split at h
    · cases h
    · have := Option.some.inj h
      rw [← this, pairsN_len]
      omega
  · split at h
    · cases h
    · have := Option.some.inj h
      rw [← this, pairsN_len]
      have := sgn_len x
      omega
theorem rpiece_none (f t c : Int) (x : ByteArray) (w : World) (hx : x.size ≤ 300) (h : pieceP f t c x = none) :
    Calls Tryd.prog 42 #[.int .i64 f, .int .i32 t, .int .i64 c, .string x] w fun e w' => e = .returned (.tuple #[.slice none 0 0, .bool false]) ∧ Ext w w' := by
  unfold pieceP at h
  split at h
  · rename_i he
    have e : x = ⟨#[]⟩ := bytes_inj he
    subst e
    split at h
    · exact rpiece_sno f t c w (by assumption)
    · cases h
  · split at h
    · exact rpiece_tno f t c x w (by omega) (by assumption) (by assumption)
    · cases h
theorem rpiece_some (f t c : Int) (x : ByteArray) (more : List Pr) (w : World) (hx : x.size ≤ 300) (h : pieceP f t c x = some more) :
    Calls Tryd.prog 42 #[.int .i64 f, .int .i32 t, .int .i64 c, .string x] w fun e w' => ∃ a cap, e = .returned (.tuple #[.slice a more.length cap, .bool true]) ∧ IsPairs w' a more.length cap more ∧ Ext w w' := by
  unfold pieceP at h
  split at h
  · rename_i he
    have e : x = ⟨#[]⟩ := bytes_inj he
    subst e
    split at h
    · cases h
    · rename_i hn
      have := Option.some.inj h
      subst this
      simp only [not_or, Bool.not_eq_false] at hn
      obtain ⟨n1, n2, n3, n4, n5, n6, n7⟩ := hn
      obtain ⟨n, rfl⟩ := Int.eq_ofNat_of_zero_le (show 0 ≤ c by omega)
      rw [Int.toNat_natCast, pairsN_len]
      exact rpiece_syes f t n w (by omega) (by omega) (by omega) (by omega) n5 n6 n7
  · split at h
    · cases h
    · rename_i hn0 hn
      have := Option.some.inj h
      subst this
      simp only [not_or, Decidable.not_not] at hn
      obtain ⟨n1, n2, n3⟩ := hn
      rw [pairsN_len]
      exact rpiece_tyes f t c x w (by omega) hn0 n1 n2 n3
end Go.Proofs.YtealeedbkjiabaaDoor
