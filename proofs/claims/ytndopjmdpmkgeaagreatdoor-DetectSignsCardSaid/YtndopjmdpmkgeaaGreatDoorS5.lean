/-
  What the proof of this claim leans on (S5).
-/
import Derived.Test.YtndopjmdpmkgeaaGreatDoorS3
import Derived.Test.YtndopjmdpmkgeaaGreatDoorS4
import Derived.Laws.AppendOwn
namespace Go.Proofs.YtndopjmdpmkgeaaGreatDoor
open Go Go.ChangeShapes Go.WideShapes Go.ChangeAt Go.RowKit
set_option linter.unusedSimpArgs false
set_option linter.unusedVariables false

/-- The place of a code among pairs, the first one's place being k; -1: it isn't there. -/
def findGo (c : Int) : Nat → List Pr → Int
  | _, [] => -1
  | k, p :: l => if p.1 = c then (k : Int) else findGo c (k + 1) l
def findP (l : List Pr) (c : Int) : Int := findGo c 0 l
/-- With a pair, by rising codes. -/
def putP : List Pr → Pr → List Pr
  | [], p => [p]
  | q :: l, p => if p.1 < q.1 then p :: q :: l else q :: putP l p
/-- Pairs, and others, of which none has a code of the first ones. -/
def joinP (l more : List Pr) : Option (List Pr) := if more.any (fun q => decide (0 ≤ findP l q.1)) then none else some (more.foldl putP l)
def overP (l other : List Pr) : List Pr := other.foldl (fun out q => if findP l q.1 < 0 then putP out q else out) l
/-- The first code of a sign; -1: there is none. -/
def revP (l : List Pr) (p : Int) : Int :=
  match l with
  | [] => -1
  | q :: l => if q.2 = p then q.1 else revP l p
theorem revP_no (c : Int) : ∀ (l : List Pr), (∀ (i : Nat) (p : Pr), l[i]? = some p → p.2 ≠ c) → revP l c = -1
  | [], _ => rfl
  | q :: l, hn => by
    have h0 := hn 0 q rfl
    rw [revP, if_neg h0, revP_no c l (fun i p hp => hn (i + 1) p (by simpa using hp))]
theorem putP_len : ∀ (l : List Pr) (p : Pr), (putP l p).length = l.length + 1
  | [], _ => rfl
  | q :: l, p => by
    unfold putP
    split
    · rfl
    · simp [putP_len l p]
/-- Where a pair goes in: behind all whose codes aren't above its own, up to the first whose code is. -/
theorem putP_at (p : Pr) : ∀ (l : List Pr) (j : Nat), j ≤ l.length → (∀ (i : Nat) (q : Pr), i < j → l[i]? = some q → ¬ p.1 < q.1) → (∀ q : Pr, l[j]? = some q → p.1 < q.1) → putP l p = l.take j ++ p :: l.drop j
  | [], 0, _, _, _ => rfl
  | [], j + 1, h, _, _ => by simp at h
  | q :: l, 0, _, _, h => by
    have := h q rfl
    unfold putP
    rw [if_pos this]
    rfl
  | q :: l, j + 1, hj, hn, h => by
    have h0 := hn 0 q (by omega) rfl
    unfold putP
    rw [if_neg h0, putP_at p l j (by simpa using hj) (fun i r hi hr => hn (i + 1) r (by omega) (by simpa using hr)) (fun r hr => h r (by simpa using hr))]
    rfl

end Go.Proofs.YtndopjmdpmkgeaaGreatDoor
namespace Go.Proofs.YtndopjmdpmkgeaaGreatDoor
open Go Go.ChangeShapes Go.WideShapes Go.ChangeAt Go.RowKit
set_option linter.unusedSimpArgs false
set_option linter.unusedVariables false

theorem own_drewN {w : World} {B : Nat} {e : TypeId} {size : Nat} {v : Value} {n : Nat} {xs : List Value} (h : w.ownsRow B e size v n xs) (k : Nat) : (w.drewN k).ownsRow B e size v n xs := h
/-- How far a pair is put in. -/
def PutTo (l : List Pr) (p : Pr) (k : Nat) (done : Bool) (out : List Pr) : Prop :=
  (done = false ∧ out = l.take k ∧ ∀ (i : Nat) (q : Pr), i < k → l[i]? = some q → ¬ p.1 < q.1) ∨ (done = true ∧ out ++ l.drop k = putP l p)
theorem PutTo.len {l : List Pr} {p : Pr} {k : Nat} {done : Bool} {out : List Pr} (h : PutTo l p k done out) (hk : k ≤ l.length) : out.length ≤ k + 1 := by
  rcases h with ⟨_, rfl, _⟩ | ⟨_, h2⟩
  · rw [List.length_take]; omega
  · have := congrArg List.length h2
    rw [putP_len, List.length_append, List.length_drop] at this
    omega
theorem PutTo.more {l : List Pr} {p : Pr} {k : Nat} {out : List Pr} (h : PutTo l p k true out) {q : Pr} (hq : l[k]? = some q) : PutTo l p (k + 1) true (out ++ [q]) := by
  rcases h with ⟨h1, _⟩ | ⟨_, h2⟩
  · cases h1
  · refine .inr ⟨rfl, ?_⟩
    obtain ⟨hlt, rfl⟩ := List.getElem?_eq_some_iff.1 hq
    rw [← h2, List.drop_eq_getElem_cons hlt, List.append_assoc]
    rfl
theorem PutTo.here {l : List Pr} {p : Pr} {k : Nat} {out : List Pr} (h : PutTo l p k false out) (hk : k ≤ l.length) (hq : ∀ q : Pr, l[k]? = some q → p.1 < q.1) : PutTo l p k true (out ++ [p]) := by
  rcases h with ⟨_, rfl, h2⟩ | ⟨h1, _⟩
  · refine .inr ⟨rfl, ?_⟩
    rw [putP_at p l k hk h2 hq, List.append_assoc]
    rfl
  · cases h1
end Go.Proofs.YtndopjmdpmkgeaaGreatDoor
namespace Go.Proofs.YtndopjmdpmkgeaaGreatDoor
open Go Go.ChangeShapes Go.WideShapes Go.ChangeAt Go.RowKit
set_option linter.unusedSimpArgs false
set_option linter.unusedVariables false

theorem joinP_some {l more r : List Pr} (h : joinP l more = some r) : (∀ (i : Nat) (q : Pr), more[i]? = some q → findP l q.1 < 0) ∧ more.foldl putP l = r := by
  unfold joinP at h
  split at h
  · cases h
  · rename_i hn
    refine ⟨fun i q hq => ?_, Option.some.inj h⟩
    have : (more.any fun q => decide (0 ≤ findP l q.1)) = false := by simpa using hn
    rw [List.any_eq_false] at this
    have := this q (List.mem_of_getElem? hq)
    simp at this
    omega
theorem joinP_none {l more : List Pr} (h : joinP l more = none) : ∃ (i : Nat) (q : Pr), more[i]? = some q ∧ 0 ≤ findP l q.1 := by
  unfold joinP at h
  split at h
  · rename_i hn
    rw [List.any_eq_true] at hn
    obtain ⟨q, hq, hd⟩ := hn
    obtain ⟨i, hi⟩ := List.getElem?_of_mem hq
    exact ⟨i, q, hi, by simpa using hd⟩
  · cases h
theorem foldl_put_len : ∀ (more l : List Pr), (more.foldl putP l).length = l.length + more.length
  | [], l => rfl
  | q :: more, l => by
    rw [List.foldl_cons, foldl_put_len more, putP_len, List.length_cons]
    omega
theorem overP_len (l : List Pr) : ∀ (other out : List Pr), (other.foldl (fun out q => if findP l q.1 < 0 then putP out q else out) out).length ≤ out.length + other.length
  | [], out => Nat.le_refl _
  | q :: other, out => by
    have := overP_len l other (if findP l q.1 < 0 then putP out q else out)
    rw [List.foldl_cons, List.length_cons]
    have h2 : (if findP l q.1 < 0 then putP out q else out).length ≤ out.length + 1 := by
      split
      · rw [putP_len]; exact Nat.le_refl _
      · omega
    omega
end Go.Proofs.YtndopjmdpmkgeaaGreatDoor
namespace Go.Proofs.YtndopjmdpmkgeaaGreatDoor
open Go Go.ChangeShapes Go.WideShapes Go.ChangeAt Go.RowKit
set_option linter.unusedSimpArgs false
set_option linter.unusedVariables false

/-- So many codes from one on, with their signs. -/
def pairsN (from0 : Int) (f : Nat → Int) (n : Nat) : List Pr := (List.range n).map fun (i : Nat) => (from0 + (i : Int), f i)
theorem pairsN_succ (from0 : Int) (f : Nat → Int) (n : Nat) : pairsN from0 f (n + 1) = pairsN from0 f n ++ [(from0 + (n : Int), f n)] := by simp [pairsN, List.range_succ]
theorem pairsN_len (from0 : Int) (f : Nat → Int) (n : Nat) : (pairsN from0 f n).length = n := by simp [pairsN]
theorem pairsN_get (from0 : Int) (f : Nat → Int) (n i : Nat) (h : i < n) : (pairsN from0 f n)[i]? = some (from0 + (i : Int), f i) := by
  unfold pairsN
  rw [List.getElem?_map, List.getElem?_range h]
  rfl
theorem row_cell' {w : World} {a : Option Addr} {n cap : Nat} {zs : List Int} (h : IsRow w a n cap zs) {k : Nat} (hk : k < n) : ∃ x off, a = some ⟨x, off, none⟩ ∧ x < w.heap.size ∧ ∃ p, zs[k]? = some p ∧ w.cell? ⟨x, off + k, none⟩ = some (.int .i32 p) := by
  obtain ⟨h1, h2⟩ := h
  rcases h2 with h2 | ⟨x, off, rfl, hc, hcell⟩
  · omega
  · have hkl : k < zs.length := by omega
    have e : zs[k]? = some zs[k] := by simp [hkl]
    exact ⟨x, off, rfl, World.block_lt_of_cell? w _ (hcell k _ e), _, e, hcell k _ e⟩
/-- A text's signs. -/
def sgn (t : ByteArray) : List Int := runesL t.data.toList
theorem sgn_len (t : ByteArray) : (sgn t).length ≤ t.size := by
  have := Lib.runeCount_le t
  rwa [runeCount_eq] at this
/-- A piece's pairs. -/
def pieceP (from0 tz cnt : Int) (t : ByteArray) : Option (List Pr) :=
  if t.data.toList = [] then
    if from0 < 0 ∨ cnt < 1 ∨ 1048576 < cnt ∨ 1048576 - cnt < from0 ∨ isSign tz = false ∨ isSign (tz + cnt - 1) = false ∨ (tz < 55296 ∧ 57343 < tz + cnt - 1) then none
    else some (pairsN from0 (fun (i : Nat) => tz + (i : Int)) cnt.toNat)
  else if ¬ badS t < 0 ∨ from0 < 0 ∨ 1048576 - ((sgn t).length : Int) < from0 then none
  else some (pairsN from0 (fun (i : Nat) => (sgn t).getD i 0) (sgn t).length)
theorem ne_facts {t : ByteArray} (h : t.data.toList ≠ []) : t.toList.isEmpty = false ∧ (t.toList == []) = false ∧ ¬ t.toList = [] := by
  rw [ByteArray.toList_eq]
  exact ⟨by simpa using h, beq_false_of_ne h, h⟩
end Go.Proofs.YtndopjmdpmkgeaaGreatDoor
namespace Go.Proofs.YtndopjmdpmkgeaaGreatDoor
open Go Go.ChangeShapes Go.WideShapes Go.ChangeAt Go.RowKit
set_option linter.unusedSimpArgs false
set_option linter.unusedVariables false

/-- A piece: its first code, its first sign's number, how many, its text. -/
structure Pv where
  f : Int
  t : Int
  c : Int
  x : ByteArray
/-- A list of pieces: none, or in memory. -/
def IsPieces (w : World) (a : Option Addr) (len cap : Nat) (l : List Pv) : Prop :=
  l.length = len ∧ (len = 0 ∨ ∃ (x off : Nat), a = some ⟨x, off, none⟩ ∧ len ≤ cap ∧ x < w.heap.size ∧ ∀ (j : Nat) (p : Pv), l[j]? = some p → w.cell? ⟨x, off + j * 4, none⟩ = some (.int .i64 p.f) ∧ w.cell? ⟨x, off + j * 4 + 1, none⟩ = some (.int .i32 p.t) ∧ w.cell? ⟨x, off + j * 4 + 2, none⟩ = some (.int .i64 p.c) ∧ w.cell? ⟨x, off + j * 4 + 3, none⟩ = some (.string p.x))
theorem IsPieces.ext {w w' : World} {a : Option Addr} {len cap : Nat} {l : List Pv} (h : IsPieces w a len cap l) (k : Ext w w') : IsPieces w' a len cap l := by
  obtain ⟨h1, h2⟩ := h
  refine ⟨h1, ?_⟩
  rcases h2 with h2 | ⟨x, off, rfl, hc, hx, hcell⟩
  · exact .inl h2
  · refine .inr ⟨x, off, rfl, hc, Nat.lt_of_lt_of_le hx k.size, fun j z hj => ?_⟩
    obtain ⟨a0, a1, a2, a3⟩ := hcell j z hj
    exact ⟨(World.cell?_of_block (k.block x hx)).trans a0, (World.cell?_of_block (k.block x hx)).trans a1, (World.cell?_of_block (k.block x hx)).trans a2, (World.cell?_of_block (k.block x hx)).trans a3⟩
theorem piece_at {w : World} {a : Option Addr} {n cap : Nat} {l : List Pv} (h : IsPieces w a n cap l) {k : Nat} (hk : k < n) : ∃ x off p, a = some ⟨x, off, none⟩ ∧ x < w.heap.size ∧ l[k]? = some p ∧ ∀ w', Ext w w' → w'.cell? ⟨x, off + k * 4, none⟩ = some (.int .i64 p.f) ∧ w'.cell? ⟨x, off + k * 4 + 1, none⟩ = some (.int .i32 p.t) ∧ w'.cell? ⟨x, off + k * 4 + 2, none⟩ = some (.int .i64 p.c) ∧ w'.cell? ⟨x, off + k * 4 + 3, none⟩ = some (.string p.x) := by
  have h0 := h
  obtain ⟨h1, h2⟩ := h
  rcases h2 with h2 | ⟨x, off, rfl, hc, hx, hcell⟩
  · omega
  · have e : l[k]? = some l[k] := by simp
    refine ⟨x, off, l[k], rfl, hx, e, fun w' hxx => ?_⟩
    obtain ⟨a0, a1, a2, a3⟩ := hcell k _ e
    exact ⟨(World.cell?_of_block (hxx.block x hx)).trans a0, (World.cell?_of_block (hxx.block x hx)).trans a1, (World.cell?_of_block (hxx.block x hx)).trans a2, (World.cell?_of_block (hxx.block x hx)).trans a3⟩
/-- The pairs of pieces behind some pairs, or the place of the first that is refused. -/
def madeGo : List Pr → Nat → List Pv → List Pr × Int
  | all, _, [] => (all, -1)
  | all, i, v :: vs =>
    match pieceP v.f v.t v.c v.x with
    | none => ([], (i : Int))
    | some more =>
      match joinP all more with
      | none => ([], (i : Int))
      | some all2 => madeGo all2 (i + 1) vs
def madeP (vs : List Pv) : List Pr × Int := madeGo [] 0 vs
theorem madeGo_none {all : List Pr} {i : Nat} {v : Pv} {vs : List Pv} (h : pieceP v.f v.t v.c v.x = none) : madeGo all i (v :: vs) = ([], (i : Int)) := by rw [madeGo, h]
theorem madeGo_no {all more : List Pr} {i : Nat} {v : Pv} {vs : List Pv} (h : pieceP v.f v.t v.c v.x = some more) (k : joinP all more = none) : madeGo all i (v :: vs) = ([], (i : Int)) := by rw [madeGo, h]; simp only [k]
theorem madeGo_some {all more all2 : List Pr} {i : Nat} {v : Pv} {vs : List Pv} (h : pieceP v.f v.t v.c v.x = some more) (k : joinP all more = some all2) : madeGo all i (v :: vs) = madeGo all2 (i + 1) vs := by rw [madeGo, h]; simp only [k]
theorem joinP_len {l more r : List Pr} (h : joinP l more = some r) : r.length = l.length + more.length := by
  rw [← (joinP_some h).2, foldl_put_len]
end Go.Proofs.YtndopjmdpmkgeaaGreatDoor

namespace Go.Proofs.YtndopjmdpmkgeaaGreatDoor
open Go Go.ChangeShapes Go.WideShapes Go.ChangeAt Go.RowKit
set_option linter.unusedSimpArgs false
set_option linter.unusedVariables false

/-- What is left to be gone: m signs ahead of the one that is asked. -/
def NthTo (s : ByteArray) (v : Int) (i m : Nat) : Prop := (runesL (s.data.toList.drop i))[m]? = some v ∧ badL i (s.data.toList.drop i) < 0
theorem NthTo.in_text {s : ByteArray} {v : Int} {i m : Nat} (h : NthTo s v i m) : i < s.size := by
  rcases Nat.lt_or_ge i s.size with h2 | h2
  · exact h2
  · have e : s.data.toList.drop i = [] := List.drop_eq_nil_of_le h2
    have := h.1
    rw [e, runesL_nil] at this
    simp at this
theorem NthTo.good {s : ByteArray} {v : Int} {i m : Nat} (h : NthTo s v i m) : ¬ ((Lib.decodeL (s.data.toList.drop i)).1 = 65533 ∧ (Lib.decodeL (s.data.toList.drop i)).2 = 1) := by
  intro hb
  have h2 := h.2
  rw [badL_step i _ (drop_ne h.in_text), if_pos hb] at h2
  omega
theorem NthTo.here {s : ByteArray} {v : Int} {i : Nat} (h : NthTo s v i 0) : ((Lib.decodeL (s.data.toList.drop i)).1 : Int) = v := by
  have h1 := h.1
  rw [runesL_step _ (drop_ne h.in_text)] at h1
  simpa using h1
theorem NthTo.next {s : ByteArray} {v : Int} {i m : Nat} (h : NthTo s v i (m + 1)) : NthTo s v (i + (Lib.decodeL (s.data.toList.drop i)).2) m := by
  have h1 := h.1
  have h2 := h.2
  have hne := drop_ne h.in_text
  rw [runesL_step _ hne, List.drop_drop] at h1
  rw [badL_step i _ hne, if_neg h.good, List.drop_drop] at h2
  exact ⟨by simpa using h1, h2⟩
set_option maxRecDepth 100000 in
set_option maxHeartbeats 1000000 in
theorem rnth_go (s : ByteArray) (v : Int) (n : Nat) (w : World) (hs : s.size ≤ 100000) (hn : n ≤ 100000) (h : NthTo s v 0 n) :
    Calls Tryz.prog 94 #[.string s, .int .i64 n] w fun e w' => e = .returned (.int .i32 v) ∧ Ext w w' := by
  have H0 := Lib.hid h
  clear h
  go_enter Tryz.func94, Tryz.ntmps94
  go_wp2
  go_loopw [1, 5] (fun a b wr => ∃ m i : Nat, a = .int .i64 m ∧ b = .int .i64 i ∧ m ≤ 100000 ∧ Ext w wr ∧ Hid (NthTo s v i m)) (fun a _ _ => (intOf a).toNat)
  case atStart => exact ⟨n, 0, rfl, rfl, hn, Ext.refl _, H0⟩
  case round =>
    obtain ⟨m, i, rfl, rfl, hm, hx, HN⟩ := hrel
    clear H0
    have hi := HN.out.in_text
    have HA := Lib.hid (fun w => rat_ok s i w hi (by omega) HN.out.good)
    have hw := Lib.decodeL_width (s.data.toList.drop i)
    have hle := Lib.decodeL_le _ (drop_ne hi)
    rw [List.length_drop] at hle
    have hsl : s.data.toList.length = s.size := rfl
    have hq : (Lib.decodeL (s.data.toList.drop i)).2 ≤ 100000 := by omega
    cases m with
    | zero =>
      have HH := Lib.hid HN.out.here
      generalize ((Lib.decodeL (s.data.toList.drop i)).1 : Int) = p at HA HH
      generalize (Lib.decodeL (s.data.toList.drop i)).2 = q at HA hw hq hle
      have HV := Lib.hid HH.out
      go_wp2_with (go_at_call 46; refine (HA.out _).mono ?_; rintro e w2 ⟨rfl, hb2⟩)
      go_ret
      exact ⟨by rw [← HV.out]; rfl, hx.trans hb2⟩
    | succ m =>
      have HX := Lib.hid HN.out.next
      generalize ((Lib.decodeL (s.data.toList.drop i)).1 : Int) = p at HA
      generalize (Lib.decodeL (s.data.toList.drop i)).2 = q at HA hw hq hle HX
      have g1 : ((m : Int) + 1 == 0) = false := beq_false_of_ne (by omega)
      have g2 : ((q : Int) == 0) = false := beq_false_of_ne (by omega)
      have g3 : ¬ (m : Int) + 1 = 0 := by omega
      have g4 : ¬ (q : Int) = 0 := by omega
      have g5 : ¬ q = 0 := by omega
      go_wp2_with (go_at_call 46; refine (HA.out _).mono ?_; rintro e w2 ⟨rfl, hb2⟩)
      go_roundw
      case rel => exact ⟨m, i + q, by first | rfl | go_num | (congr 1; omega), by go_num, by omega, hx.trans hb2, HX.out⟩
      case measure => first | (simp [intOf]; done) | (simp [intOf]; omega)
theorem rnth (s : ByteArray) (L : List Int) (hL : runesL s.data.toList = L) (hb : badS s < 0) (n : Nat) (w : World) (hs : s.size ≤ 100000) (hn : n < L.length) (hl : L.length ≤ 100000) :
    Calls Tryz.prog 94 #[.string s, .int .i64 n] w fun e w' => e = .returned (.int .i32 (L.getD n 0)) ∧ Ext w w' := by
  refine rnth_go s (L.getD n 0) n w hs (by omega) ⟨?_, ?_⟩
  · show (runesL s.data.toList)[n]? = _
    rw [show runesL s.data.toList = L from hL]
    simp [List.getD, hn]
  · exact hb
end Go.Proofs.YtndopjmdpmkgeaaGreatDoor
namespace Go.Proofs.YtndopjmdpmkgeaaGreatDoor
open Go Go.ChangeShapes Go.WideShapes Go.ChangeAt Go.RowKit
set_option linter.unusedSimpArgs false
set_option linter.unusedVariables false

/-- The signs of KOI8-R from 128 on; those of CP866 from 176 on, and from 240 on. -/
def russL : List Int := [9472, 9474, 9484, 9488, 9492, 9496, 9500, 9508, 9516, 9524, 9532, 9600, 9604, 9608, 9612, 9616, 9617, 9618, 9619, 8992, 9632, 8729, 8730, 8776, 8804, 8805, 160, 8993, 176, 178, 183, 247, 9552, 9553, 9554, 1105, 9555, 9556, 9557, 9558, 9559, 9560, 9561, 9562, 9563, 9564, 9565, 9566, 9567, 9568, 9569, 1025, 9570, 9571, 9572, 9573, 9574, 9575, 9576, 9577, 9578, 9579, 9580, 169, 1102, 1072, 1073, 1094, 1076, 1077, 1092, 1075, 1093, 1080, 1081, 1082, 1083, 1084, 1085, 1086, 1087, 1103, 1088, 1089, 1090, 1091, 1078, 1074, 1100, 1099, 1079, 1096, 1101, 1097, 1095, 1098, 1070, 1040, 1041, 1062, 1044, 1045, 1060, 1043, 1061, 1048, 1049, 1050, 1051, 1052, 1053, 1054, 1055, 1071, 1056, 1057, 1058, 1059, 1046, 1042, 1068, 1067, 1047, 1064, 1069, 1065, 1063, 1066]
def frameL : List Int := [9617, 9618, 9619, 9474, 9508, 9569, 9570, 9558, 9557, 9571, 9553, 9559, 9565, 9564, 9563, 9488, 9492, 9524, 9516, 9500, 9472, 9532, 9566, 9567, 9562, 9556, 9577, 9574, 9568, 9552, 9580, 9575, 9576, 9572, 9573, 9561, 9560, 9554, 9555, 9579, 9578, 9496, 9484, 9608, 9604, 9612, 9616, 9600]
def otherL : List Int := [1025, 1105, 1028, 1108, 1031, 1111, 1038, 1118, 176, 8729, 183, 8730, 8470, 164, 9632, 160]
/-- The sign of a byte, in one of the four. -/
def signZ (c : Int) (n : Nat) : Int :=
  if c = 0 ∨ n < 128 then n
  else if c = 3 then (if n < 176 then 912 + (n : Int) else if n < 224 then frameL.getD (n - 176) 0 else if n < 240 then 864 + (n : Int) else otherL.getD (n - 240) 0)
  else if c = 2 ∧ n = 164 then 1108 else if c = 2 ∧ n = 166 then 1110 else if c = 2 ∧ n = 167 then 1111 else if c = 2 ∧ n = 173 then 1169
  else if c = 2 ∧ n = 180 then 1028 else if c = 2 ∧ n = 182 then 1030 else if c = 2 ∧ n = 183 then 1031 else if c = 2 ∧ n = 189 then 1168
  else russL.getD (n - 128) 0
set_option maxRecDepth 100000 in
set_option maxHeartbeats 1000000 in
theorem sign_low (c : Int) (m : Nat) (w : World) (h : m < 128) :
    Calls Tryz.prog 55 #[.int .i64 c, .int .u8 m] w fun e w' => e = .returned (.int .i32 m) ∧ Ext w w' := by
  have h2 : (m : Int) < 128 := by omega
  by_cases hc : c = 0
  · subst hc
    go_enter Tryz.func55, Tryz.ntmps55
    go_wp2
    go_ret
    exact ⟨rfl, Ext.refl _⟩
  · have g : (c == 0) = false := beq_false_of_ne hc
    go_enter Tryz.func55, Tryz.ntmps55
    go_wp2
    go_ret
    exact ⟨rfl, Ext.refl _⟩
set_option maxRecDepth 100000 in
set_option maxHeartbeats 1000000 in
theorem sign_latin (m : Nat) (w : World) (h : m < 256) :
    Calls Tryz.prog 55 #[.int .i64 0, .int .u8 m] w fun e w' => e = .returned (.int .i32 m) ∧ Ext w w' := by
  go_enter Tryz.func55, Tryz.ntmps55
  go_wp2
  go_ret
  exact ⟨rfl, Ext.refl _⟩
set_option maxRecDepth 100000 in
set_option maxHeartbeats 1000000 in
theorem sign_dosA (m : Nat) (w : World) (h : m < 48) :
    Calls Tryz.prog 55 #[.int .i64 3, .int .u8 ((m : Int) + 128)] w fun e w' => e = .returned (.int .i32 (1040 + (m : Int))) ∧ Ext w w' := by
  have h1 : (m : Int) < 48 := by omega
  have h3 : (0 : Int) ≤ m := by omega
  go_enter Tryz.func55, Tryz.ntmps55
  go_wp2
  go_ret
  exact ⟨by first | rfl | (simp; done) | (simp; omega), Ext.refl _⟩
set_option maxRecDepth 100000 in
set_option maxHeartbeats 1000000 in
theorem sign_dosB (m : Nat) (w : World) (h : m < 48) :
    Calls Tryz.prog 55 #[.int .i64 3, .int .u8 ((m : Int) + 176)] w fun e w' => e = .returned (.int .i32 (frameL.getD m 0)) ∧ Ext w w' := by
  have h1 : (m : Int) < 48 := by omega
  have h3 : (0 : Int) ≤ m := by omega
  go_enter Tryz.func55, Tryz.ntmps55
  go_wp2_with (go_at_call 94; refine (rnth _ frameL (by decide +kernel) (by decide +kernel) m _ (by decide +kernel) h (by decide)).mono ?_; rintro e w1 ⟨rfl, hb1⟩)
  go_ret
  exact ⟨rfl, hb1⟩
set_option maxRecDepth 100000 in
set_option maxHeartbeats 1000000 in
theorem sign_dosC (m : Nat) (w : World) (h : m < 16) :
    Calls Tryz.prog 55 #[.int .i64 3, .int .u8 ((m : Int) + 224)] w fun e w' => e = .returned (.int .i32 (1088 + (m : Int))) ∧ Ext w w' := by
  have h1 : (m : Int) < 16 := by omega
  have h3 : (0 : Int) ≤ m := by omega
  go_enter Tryz.func55, Tryz.ntmps55
  go_wp2
  go_ret
  exact ⟨by first | rfl | (simp; done) | (simp; omega), Ext.refl _⟩
set_option maxRecDepth 100000 in
set_option maxHeartbeats 1000000 in
theorem sign_dosD (m : Nat) (w : World) (h : m < 16) :
    Calls Tryz.prog 55 #[.int .i64 3, .int .u8 ((m : Int) + 240)] w fun e w' => e = .returned (.int .i32 (otherL.getD m 0)) ∧ Ext w w' := by
  have h1 : (m : Int) < 16 := by omega
  have h3 : (0 : Int) ≤ m := by omega
  go_enter Tryz.func55, Tryz.ntmps55
  go_wp2_with (go_at_call 94; refine (rnth _ otherL (by decide +kernel) (by decide +kernel) m _ (by decide +kernel) h (by decide)).mono ?_; rintro e w1 ⟨rfl, hb1⟩)
  go_ret
  exact ⟨rfl, hb1⟩
set_option maxRecDepth 100000 in
set_option maxHeartbeats 1000000 in
theorem sign_koir (m : Nat) (w : World) (h : m < 128) :
    Calls Tryz.prog 55 #[.int .i64 1, .int .u8 ((m : Int) + 128)] w fun e w' => e = .returned (.int .i32 (russL.getD m 0)) ∧ Ext w w' := by
  have h3 : (0 : Int) ≤ m := by omega
  have h1 : (m : Int) < 128 := by omega
  go_enter Tryz.func55, Tryz.ntmps55
  go_wp2_with (go_at_call 94; refine (rnth _ russL (by decide +kernel) (by decide +kernel) m _ (by decide +kernel) h (by decide)).mono ?_; rintro e w1 ⟨rfl, hb1⟩)
  go_ret
  exact ⟨rfl, hb1⟩
set_option maxRecDepth 100000 in
set_option maxHeartbeats 1000000 in
theorem sign_koiu (m : Nat) (w : World) (h : m < 128) (n164 : m ≠ 36) (n166 : m ≠ 38) (n167 : m ≠ 39) (n173 : m ≠ 45) (n180 : m ≠ 52) (n182 : m ≠ 54) (n183 : m ≠ 55) (n189 : m ≠ 61) :
    Calls Tryz.prog 55 #[.int .i64 2, .int .u8 ((m : Int) + 128)] w fun e w' => e = .returned (.int .i32 (russL.getD m 0)) ∧ Ext w w' := by
  have h3 : (0 : Int) ≤ m := by omega
  have h1 : (m : Int) < 128 := by omega
  have e164 : ((m : Int) + 128 == 164) = false := beq_false_of_ne (by omega)
  have f164 : ¬ (m : Int) + 128 = 164 := by omega
  have i164 : ¬ (m : Int) = 36 := by omega
  have j164 : ((m : Int) == 36) = false := beq_false_of_ne (by omega)
  have e166 : ((m : Int) + 128 == 166) = false := beq_false_of_ne (by omega)
  have f166 : ¬ (m : Int) + 128 = 166 := by omega
  have i166 : ¬ (m : Int) = 38 := by omega
  have j166 : ((m : Int) == 38) = false := beq_false_of_ne (by omega)
  have e167 : ((m : Int) + 128 == 167) = false := beq_false_of_ne (by omega)
  have f167 : ¬ (m : Int) + 128 = 167 := by omega
  have i167 : ¬ (m : Int) = 39 := by omega
  have j167 : ((m : Int) == 39) = false := beq_false_of_ne (by omega)
  have e173 : ((m : Int) + 128 == 173) = false := beq_false_of_ne (by omega)
  have f173 : ¬ (m : Int) + 128 = 173 := by omega
  have i173 : ¬ (m : Int) = 45 := by omega
  have j173 : ((m : Int) == 45) = false := beq_false_of_ne (by omega)
  have e180 : ((m : Int) + 128 == 180) = false := beq_false_of_ne (by omega)
  have f180 : ¬ (m : Int) + 128 = 180 := by omega
  have i180 : ¬ (m : Int) = 52 := by omega
  have j180 : ((m : Int) == 52) = false := beq_false_of_ne (by omega)
  have e182 : ((m : Int) + 128 == 182) = false := beq_false_of_ne (by omega)
  have f182 : ¬ (m : Int) + 128 = 182 := by omega
  have i182 : ¬ (m : Int) = 54 := by omega
  have j182 : ((m : Int) == 54) = false := beq_false_of_ne (by omega)
  have e183 : ((m : Int) + 128 == 183) = false := beq_false_of_ne (by omega)
  have f183 : ¬ (m : Int) + 128 = 183 := by omega
  have i183 : ¬ (m : Int) = 55 := by omega
  have j183 : ((m : Int) == 55) = false := beq_false_of_ne (by omega)
  have e189 : ((m : Int) + 128 == 189) = false := beq_false_of_ne (by omega)
  have f189 : ¬ (m : Int) + 128 = 189 := by omega
  have i189 : ¬ (m : Int) = 61 := by omega
  have j189 : ((m : Int) == 61) = false := beq_false_of_ne (by omega)
  clear n164 n166 n167 n173 n180 n182 n183 n189
  go_enter Tryz.func55, Tryz.ntmps55
  go_wp2_with (go_at_call 94; refine (rnth _ russL (by decide +kernel) (by decide +kernel) m _ (by decide +kernel) h (by decide)).mono ?_; rintro e w1 ⟨rfl, hb1⟩)
  go_ret
  exact ⟨rfl, hb1⟩
theorem sign_u164 (w : World) : Calls Tryz.prog 55 #[.int .i64 2, .int .u8 164] w fun e w' => e = .returned (.int .i32 1108) ∧ Ext w w' := by
  go_enter Tryz.func55, Tryz.ntmps55
  go_wp2
  go_ret
  exact ⟨rfl, Ext.refl _⟩
theorem sign_u166 (w : World) : Calls Tryz.prog 55 #[.int .i64 2, .int .u8 166] w fun e w' => e = .returned (.int .i32 1110) ∧ Ext w w' := by
  go_enter Tryz.func55, Tryz.ntmps55
  go_wp2
  go_ret
  exact ⟨rfl, Ext.refl _⟩
theorem sign_u167 (w : World) : Calls Tryz.prog 55 #[.int .i64 2, .int .u8 167] w fun e w' => e = .returned (.int .i32 1111) ∧ Ext w w' := by
  go_enter Tryz.func55, Tryz.ntmps55
  go_wp2
  go_ret
  exact ⟨rfl, Ext.refl _⟩
theorem sign_u173 (w : World) : Calls Tryz.prog 55 #[.int .i64 2, .int .u8 173] w fun e w' => e = .returned (.int .i32 1169) ∧ Ext w w' := by
  go_enter Tryz.func55, Tryz.ntmps55
  go_wp2
  go_ret
  exact ⟨rfl, Ext.refl _⟩
theorem sign_u180 (w : World) : Calls Tryz.prog 55 #[.int .i64 2, .int .u8 180] w fun e w' => e = .returned (.int .i32 1028) ∧ Ext w w' := by
  go_enter Tryz.func55, Tryz.ntmps55
  go_wp2
  go_ret
  exact ⟨rfl, Ext.refl _⟩
theorem sign_u182 (w : World) : Calls Tryz.prog 55 #[.int .i64 2, .int .u8 182] w fun e w' => e = .returned (.int .i32 1030) ∧ Ext w w' := by
  go_enter Tryz.func55, Tryz.ntmps55
  go_wp2
  go_ret
  exact ⟨rfl, Ext.refl _⟩
theorem sign_u183 (w : World) : Calls Tryz.prog 55 #[.int .i64 2, .int .u8 183] w fun e w' => e = .returned (.int .i32 1031) ∧ Ext w w' := by
  go_enter Tryz.func55, Tryz.ntmps55
  go_wp2
  go_ret
  exact ⟨rfl, Ext.refl _⟩
theorem sign_u189 (w : World) : Calls Tryz.prog 55 #[.int .i64 2, .int .u8 189] w fun e w' => e = .returned (.int .i32 1168) ∧ Ext w w' := by
  go_enter Tryz.func55, Tryz.ntmps55
  go_wp2
  go_ret
  exact ⟨rfl, Ext.refl _⟩
/-- The sign of any byte, in one of the four charsets. -/
theorem rsign (c : Int) (n : Nat) (w : World) (hc0 : 0 ≤ c) (hc3 : c ≤ 3) (hn : n < 256) :
    Calls Tryz.prog 55 #[.int .i64 c, .int .u8 n] w fun e w' => e = .returned (.int .i32 (signZ c n)) ∧ Ext w w' := by
  by_cases h0 : c = 0
  · subst h0
    have e : signZ 0 n = n := by unfold signZ; rw [if_pos (.inl rfl)]
    rw [e]
    exact sign_latin n w hn
  by_cases h1 : n < 128
  · have e : signZ c n = n := by unfold signZ; rw [if_pos (.inr h1)]
    rw [e]
    exact sign_low c n w h1
  have hN : ¬ (c = 0 ∨ n < 128) := by omega
  by_cases h3 : c = 3
  · subst h3
    have e : signZ 3 n = (if n < 176 then 912 + (n : Int) else if n < 224 then frameL.getD (n - 176) 0 else if n < 240 then 864 + (n : Int) else otherL.getD (n - 240) 0) := by unfold signZ; rw [if_neg hN, if_pos rfl]
    rw [e]
    by_cases a1 : n < 176
    · obtain ⟨m, rfl⟩ : ∃ m, n = m + 128 := ⟨n - 128, by omega⟩
      rw [if_pos a1, show (912 + ((m + 128 : Nat) : Int)) = 1040 + (m : Int) from by omega]
      exact sign_dosA m w (by omega)
    rw [if_neg a1]
    by_cases a2 : n < 224
    · obtain ⟨m, rfl⟩ : ∃ m, n = m + 176 := ⟨n - 176, by omega⟩
      rw [if_pos a2, Nat.add_sub_cancel]
      exact sign_dosB m w (by omega)
    rw [if_neg a2]
    by_cases a3 : n < 240
    · obtain ⟨m, rfl⟩ : ∃ m, n = m + 224 := ⟨n - 224, by omega⟩
      rw [if_pos a3, show (864 + ((m + 224 : Nat) : Int)) = 1088 + (m : Int) from by omega]
      exact sign_dosC m w (by omega)
    rw [if_neg a3]
    obtain ⟨m, rfl⟩ : ∃ m, n = m + 240 := ⟨n - 240, by omega⟩
    rw [Nat.add_sub_cancel]
    exact sign_dosD m w (by omega)
  have e0 : ∀ v r : Int, ∀ x : Int, c ≠ 2 → (if c = 2 ∧ (n : Int) = v then r else x) = x := fun v r x h => if_neg (fun k => h k.1)
  by_cases h2 : c = 2
  · subst h2
    by_cases b1 : n = 164
    · subst b1; exact sign_u164 w
    by_cases b2 : n = 166
    · subst b2; exact sign_u166 w
    by_cases b3 : n = 167
    · subst b3; exact sign_u167 w
    by_cases b4 : n = 173
    · subst b4; exact sign_u173 w
    by_cases b5 : n = 180
    · subst b5; exact sign_u180 w
    by_cases b6 : n = 182
    · subst b6; exact sign_u182 w
    by_cases b7 : n = 183
    · subst b7; exact sign_u183 w
    by_cases b8 : n = 189
    · subst b8; exact sign_u189 w
    have e : signZ 2 n = russL.getD (n - 128) 0 := by
      unfold signZ
      rw [if_neg hN, if_neg h3, if_neg (fun k => b1 k.2), if_neg (fun k => b2 k.2), if_neg (fun k => b3 k.2), if_neg (fun k => b4 k.2), if_neg (fun k => b5 k.2), if_neg (fun k => b6 k.2), if_neg (fun k => b7 k.2), if_neg (fun k => b8 k.2)]
    rw [e]
    obtain ⟨m, rfl⟩ : ∃ m, n = m + 128 := ⟨n - 128, by omega⟩
    rw [Nat.add_sub_cancel]
    exact sign_koiu m w (by omega) (by omega) (by omega) (by omega) (by omega) (by omega) (by omega) (by omega) (by omega)
  · obtain rfl : c = 1 := by omega
    have e : signZ 1 n = russL.getD (n - 128) 0 := by
      unfold signZ
      rw [if_neg hN, if_neg h3, if_neg (fun k => h2 k.1), if_neg (fun k => h2 k.1), if_neg (fun k => h2 k.1), if_neg (fun k => h2 k.1), if_neg (fun k => h2 k.1), if_neg (fun k => h2 k.1), if_neg (fun k => h2 k.1), if_neg (fun k => h2 k.1)]
    rw [e]
    obtain ⟨m, rfl⟩ : ∃ m, n = m + 128 := ⟨n - 128, by omega⟩
    rw [Nat.add_sub_cancel]
    exact sign_koir m w (by omega)
end Go.Proofs.YtndopjmdpmkgeaaGreatDoor
namespace Go.Proofs.YtndopjmdpmkgeaaGreatDoor
open Go Go.ChangeShapes Go.WideShapes Go.ChangeAt Go.RowKit
set_option linter.unusedSimpArgs false
set_option linter.unusedVariables false

/-- The least byte of a sign from n on, of so many bytes; -1: there is none. -/
def byteGo (c p : Int) : Nat → Nat → Int
  | 0, _ => -1
  | k + 1, n => if signZ c n = p then (n : Int) else byteGo c p k (n + 1)
def byteZ (c p : Int) : Int := byteGo c p 256 0
theorem byteGo_at (c p : Int) : ∀ (k n j : Nat), j < k → (∀ i, i < j → signZ c (n + i) ≠ p) → signZ c (n + j) = p → byteGo c p k n = ((n + j : Nat) : Int)
  | 0, _, _, h, _, _ => by omega
  | k + 1, n, 0, _, _, e => by rw [byteGo, if_pos (by simpa using e)]; rfl
  | k + 1, n, j + 1, h, hn, e => by
    have h0 := hn 0 (by omega)
    rw [byteGo, if_neg (by simpa using h0), byteGo_at c p k (n + 1) j (by omega) (fun i hi => by
      have := hn (i + 1) (by omega)
      rwa [show n + 1 + i = n + (i + 1) from by omega]) (by rwa [show n + 1 + j = n + (j + 1) from by omega])]
    omega
theorem byteGo_no (c p : Int) : ∀ (k n : Nat), (∀ i, i < k → signZ c (n + i) ≠ p) → byteGo c p k n = -1
  | 0, _, _ => rfl
  | k + 1, n, hn => by
    have h0 := hn 0 (by omega)
    rw [byteGo, if_neg (by simpa using h0), byteGo_no c p k (n + 1) (fun i hi => by
      have := hn (i + 1) (by omega)
      rwa [show n + 1 + i = n + (i + 1) from by omega])]
theorem byteGo_bd (c p : Int) : ∀ (k n : Nat), byteGo c p k n = -1 ∨ ((n : Int) ≤ byteGo c p k n ∧ byteGo c p k n < n + k)
  | 0, _ => .inl rfl
  | k + 1, n => by
    unfold byteGo
    split
    · exact .inr ⟨by omega, by omega⟩
    · rcases byteGo_bd c p k (n + 1) with h | h
      · exact .inl h
      · exact .inr ⟨by omega, by omega⟩
theorem byteZ_bd (c p : Int) : byteZ c p = -1 ∨ (0 ≤ byteZ c p ∧ byteZ c p < 256) := by
  have := byteGo_bd c p 256 0
  unfold byteZ
  omega
theorem signs_ok : ∀ c : Fin 4, ∀ n : Fin 256, isSign (signZ (c.val : Int) n.val) = true := by decide +kernel
theorem sign_sign (c : Int) (n : Nat) (hc0 : 0 ≤ c) (hc3 : c ≤ 3) (hn : n < 256) : isSign (signZ c n) = true := by
  obtain ⟨k, rfl⟩ := Int.eq_ofNat_of_zero_le hc0
  exact signs_ok ⟨k, by omega⟩ ⟨n, hn⟩
/-- The signs of bytes. -/
def decZ (c : Int) (l : List UInt8) : List Int := l.map fun x => signZ c x.toNat
theorem decZ_signs (c : Int) (l : List UInt8) (hc0 : 0 ≤ c) (hc3 : c ≤ 3) : allSigns (decZ c l) = true := by
  unfold allSigns decZ
  rw [List.all_map, List.all_eq_true]
  intro x hx
  exact sign_sign c x.toNat hc0 hc3 x.toNat_lt
set_option maxRecDepth 100000 in
set_option maxHeartbeats 1000000 in
theorem rdec5 (c : Int) (s : ByteArray) (w : World) (hc0 : 0 ≤ c) (hc3 : c ≤ 3) (hs : s.size ≤ 1000000) :
    Calls Tryz.prog 34 #[.int .i64 c, .string s] w fun e w' => e = .returned (.string (txt (decZ c s.data.toList))) ∧ Ext w w' := by
  have HS := Lib.hid (fun (n : Nat) (hn : n < 256) w => rsign c n w hc0 hc3 hn)
  go_enter Tryz.func34, Tryz.ntmps34
  go_wp2
  go_loopw [5, 6] (fun t i wr => ∃ (k : Nat) (u : ByteArray), k ≤ s.size ∧ i = .int .i64 k ∧ t = .string u ∧ Ext w wr ∧ u.size ≤ 4 * k ∧ Hid (u = txt (decZ c (s.data.toList.take k)))) (fun _ i _ => s.size - (intOf i).toNat)
  case atStart => exact ⟨0, ⟨#[]⟩, by omega, rfl, rfl, Ext.refl _, by decide, rfl⟩
  case round =>
    obtain ⟨k, u, hk, rfl, rfl, hx, hus, HU⟩ := hrel
    by_cases hlt : k < s.size
    · have hb := byte_at s k hlt
      have htk : s.data.toList.take (k + 1) = s.data.toList.take k ++ [s[k]] := by rw [List.take_add_one, hb]; rfl
      have hn : s[k].toNat < 256 := s[k].toNat_lt
      have HB := Lib.hid (HS.out s[k].toNat hn)
      have hsz := sign_size (signZ c s[k].toNat)
      have HG := Lib.hid (fun w => rbytes_any (signZ c s[k].toNat) w (sign_sign c s[k].toNat hc0 hc3 hn))
      have HX : Hid (u ++ signText (signZ c s[k].toNat) = txt (decZ c (s.data.toList.take (k + 1)))) := by
        show _ = _
        rw [htk, HU.out, txt_append]
        unfold decZ
        rw [List.map_append]
        rfl
      clear htk hb
      generalize signText (signZ c s[k].toNat) = g at HG HX hsz
      go_wp2_with (first
        | (go_at_call 55; refine (HB.out _).mono ?_; rintro e w2 ⟨rfl, hb2⟩)
        | (go_at_call 54; refine (HG.out _).mono ?_; rintro e w3 ⟨rfl, hb3⟩))
      go_roundw
      case rel => exact ⟨k + 1, u ++ g, by omega, by go_num, rfl, (hx.trans hb2).trans hb3, by rw [ByteArray.size_append]; omega, HX⟩
      case measure => simp [intOf]; omega
    · have hkl : k = s.size := by omega
      have hl : s.data.toList.length = s.size := rfl
      have hu : u = txt (decZ c s.data.toList) := by have := HU.out; rw [List.take_of_length_le (by omega)] at this; exact this
      have HE := Lib.hid hu
      clear hu HU hl
      go_wp2
      go_ret
      exact ⟨by rw [← HE.out]; rfl, hx⟩
/-- The place of the first sign that has no byte, that of the first sign being at; -1: all have. -/
def badZ (c : Int) : Nat → List Int → Int
  | _, [] => -1
  | a, p :: l => if byteZ c p < 0 then (a : Int) else badZ c (a + (Lib.encodeRune p).length) l
theorem drop_int {vs : List Int} {k : Nat} {v : Int} (h : vs[k]? = some v) : vs.drop k = v :: vs.drop (k + 1) := by
  obtain ⟨hlt, rfl⟩ := List.getElem?_eq_some_iff.1 h
  exact List.drop_eq_getElem_cons hlt
theorem IsRow.cell {w : World} {a : Option Addr} {n cap : Nat} {zs : List Int} (h : IsRow w a n cap zs) {k : Nat} (hk : k < n) : ∃ x off p, a = some ⟨x, off, none⟩ ∧ zs[k]? = some p ∧ ∀ w', Ext w w' → w'.cell? ⟨x, off + k, none⟩ = some (.int .i32 p) := by
  obtain ⟨h1, h2⟩ := h
  rcases h2 with h2 | ⟨x, off, rfl, hc, hcell⟩
  · omega
  · have hkl : k < zs.length := by omega
    have e : zs[k]? = some zs[k] := by simp [hkl]
    exact ⟨x, off, _, rfl, e, fun w' hx => (World.cell?_of_block (hx.block x (World.block_lt_of_cell? w _ (hcell k _ e)))).trans (hcell k _ e)⟩
end Go.Proofs.YtndopjmdpmkgeaaGreatDoor
namespace Go.Proofs.YtndopjmdpmkgeaaGreatDoor
open Go Go.RowKit
set_option linter.unusedSimpArgs false
set_option linter.unusedVariables false

/-- The signs of all bytes, in each of the four. -/
def tabZ : Nat → List Int
  | 0 => [0, 1, 2, 3, 4, 5, 6, 7, 8, 9, 10, 11, 12, 13, 14, 15, 16, 17, 18, 19, 20, 21, 22, 23, 24, 25, 26, 27, 28, 29, 30, 31, 32, 33, 34, 35, 36, 37, 38, 39, 40, 41, 42, 43, 44, 45, 46, 47, 48, 49, 50, 51, 52, 53, 54, 55, 56, 57, 58, 59, 60, 61, 62, 63, 64, 65, 66, 67, 68, 69, 70, 71, 72, 73, 74, 75, 76, 77, 78, 79, 80, 81, 82, 83, 84, 85, 86, 87, 88, 89, 90, 91, 92, 93, 94, 95, 96, 97, 98, 99, 100, 101, 102, 103, 104, 105, 106, 107, 108, 109, 110, 111, 112, 113, 114, 115, 116, 117, 118, 119, 120, 121, 122, 123, 124, 125, 126, 127, 128, 129, 130, 131, 132, 133, 134, 135, 136, 137, 138, 139, 140, 141, 142, 143, 144, 145, 146, 147, 148, 149, 150, 151, 152, 153, 154, 155, 156, 157, 158, 159, 160, 161, 162, 163, 164, 165, 166, 167, 168, 169, 170, 171, 172, 173, 174, 175, 176, 177, 178, 179, 180, 181, 182, 183, 184, 185, 186, 187, 188, 189, 190, 191, 192, 193, 194, 195, 196, 197, 198, 199, 200, 201, 202, 203, 204, 205, 206, 207, 208, 209, 210, 211, 212, 213, 214, 215, 216, 217, 218, 219, 220, 221, 222, 223, 224, 225, 226, 227, 228, 229, 230, 231, 232, 233, 234, 235, 236, 237, 238, 239, 240, 241, 242, 243, 244, 245, 246, 247, 248, 249, 250, 251, 252, 253, 254, 255]
  | 1 => [0, 1, 2, 3, 4, 5, 6, 7, 8, 9, 10, 11, 12, 13, 14, 15, 16, 17, 18, 19, 20, 21, 22, 23, 24, 25, 26, 27, 28, 29, 30, 31, 32, 33, 34, 35, 36, 37, 38, 39, 40, 41, 42, 43, 44, 45, 46, 47, 48, 49, 50, 51, 52, 53, 54, 55, 56, 57, 58, 59, 60, 61, 62, 63, 64, 65, 66, 67, 68, 69, 70, 71, 72, 73, 74, 75, 76, 77, 78, 79, 80, 81, 82, 83, 84, 85, 86, 87, 88, 89, 90, 91, 92, 93, 94, 95, 96, 97, 98, 99, 100, 101, 102, 103, 104, 105, 106, 107, 108, 109, 110, 111, 112, 113, 114, 115, 116, 117, 118, 119, 120, 121, 122, 123, 124, 125, 126, 127, 9472, 9474, 9484, 9488, 9492, 9496, 9500, 9508, 9516, 9524, 9532, 9600, 9604, 9608, 9612, 9616, 9617, 9618, 9619, 8992, 9632, 8729, 8730, 8776, 8804, 8805, 160, 8993, 176, 178, 183, 247, 9552, 9553, 9554, 1105, 9555, 9556, 9557, 9558, 9559, 9560, 9561, 9562, 9563, 9564, 9565, 9566, 9567, 9568, 9569, 1025, 9570, 9571, 9572, 9573, 9574, 9575, 9576, 9577, 9578, 9579, 9580, 169, 1102, 1072, 1073, 1094, 1076, 1077, 1092, 1075, 1093, 1080, 1081, 1082, 1083, 1084, 1085, 1086, 1087, 1103, 1088, 1089, 1090, 1091, 1078, 1074, 1100, 1099, 1079, 1096, 1101, 1097, 1095, 1098, 1070, 1040, 1041, 1062, 1044, 1045, 1060, 1043, 1061, 1048, 1049, 1050, 1051, 1052, 1053, 1054, 1055, 1071, 1056, 1057, 1058, 1059, 1046, 1042, 1068, 1067, 1047, 1064, 1069, 1065, 1063, 1066]
  | 2 => [0, 1, 2, 3, 4, 5, 6, 7, 8, 9, 10, 11, 12, 13, 14, 15, 16, 17, 18, 19, 20, 21, 22, 23, 24, 25, 26, 27, 28, 29, 30, 31, 32, 33, 34, 35, 36, 37, 38, 39, 40, 41, 42, 43, 44, 45, 46, 47, 48, 49, 50, 51, 52, 53, 54, 55, 56, 57, 58, 59, 60, 61, 62, 63, 64, 65, 66, 67, 68, 69, 70, 71, 72, 73, 74, 75, 76, 77, 78, 79, 80, 81, 82, 83, 84, 85, 86, 87, 88, 89, 90, 91, 92, 93, 94, 95, 96, 97, 98, 99, 100, 101, 102, 103, 104, 105, 106, 107, 108, 109, 110, 111, 112, 113, 114, 115, 116, 117, 118, 119, 120, 121, 122, 123, 124, 125, 126, 127, 9472, 9474, 9484, 9488, 9492, 9496, 9500, 9508, 9516, 9524, 9532, 9600, 9604, 9608, 9612, 9616, 9617, 9618, 9619, 8992, 9632, 8729, 8730, 8776, 8804, 8805, 160, 8993, 176, 178, 183, 247, 9552, 9553, 9554, 1105, 1108, 9556, 1110, 1111, 9559, 9560, 9561, 9562, 9563, 1169, 9565, 9566, 9567, 9568, 9569, 1025, 1028, 9571, 1030, 1031, 9574, 9575, 9576, 9577, 9578, 1168, 9580, 169, 1102, 1072, 1073, 1094, 1076, 1077, 1092, 1075, 1093, 1080, 1081, 1082, 1083, 1084, 1085, 1086, 1087, 1103, 1088, 1089, 1090, 1091, 1078, 1074, 1100, 1099, 1079, 1096, 1101, 1097, 1095, 1098, 1070, 1040, 1041, 1062, 1044, 1045, 1060, 1043, 1061, 1048, 1049, 1050, 1051, 1052, 1053, 1054, 1055, 1071, 1056, 1057, 1058, 1059, 1046, 1042, 1068, 1067, 1047, 1064, 1069, 1065, 1063, 1066]
  | _ => [0, 1, 2, 3, 4, 5, 6, 7, 8, 9, 10, 11, 12, 13, 14, 15, 16, 17, 18, 19, 20, 21, 22, 23, 24, 25, 26, 27, 28, 29, 30, 31, 32, 33, 34, 35, 36, 37, 38, 39, 40, 41, 42, 43, 44, 45, 46, 47, 48, 49, 50, 51, 52, 53, 54, 55, 56, 57, 58, 59, 60, 61, 62, 63, 64, 65, 66, 67, 68, 69, 70, 71, 72, 73, 74, 75, 76, 77, 78, 79, 80, 81, 82, 83, 84, 85, 86, 87, 88, 89, 90, 91, 92, 93, 94, 95, 96, 97, 98, 99, 100, 101, 102, 103, 104, 105, 106, 107, 108, 109, 110, 111, 112, 113, 114, 115, 116, 117, 118, 119, 120, 121, 122, 123, 124, 125, 126, 127, 1040, 1041, 1042, 1043, 1044, 1045, 1046, 1047, 1048, 1049, 1050, 1051, 1052, 1053, 1054, 1055, 1056, 1057, 1058, 1059, 1060, 1061, 1062, 1063, 1064, 1065, 1066, 1067, 1068, 1069, 1070, 1071, 1072, 1073, 1074, 1075, 1076, 1077, 1078, 1079, 1080, 1081, 1082, 1083, 1084, 1085, 1086, 1087, 9617, 9618, 9619, 9474, 9508, 9569, 9570, 9558, 9557, 9571, 9553, 9559, 9565, 9564, 9563, 9488, 9492, 9524, 9516, 9500, 9472, 9532, 9566, 9567, 9562, 9556, 9577, 9574, 9568, 9552, 9580, 9575, 9576, 9572, 9573, 9561, 9560, 9554, 9555, 9579, 9578, 9496, 9484, 9608, 9604, 9612, 9616, 9600, 1088, 1089, 1090, 1091, 1092, 1093, 1094, 1095, 1096, 1097, 1098, 1099, 1100, 1101, 1102, 1103, 1025, 1105, 1028, 1108, 1031, 1111, 1038, 1118, 176, 8729, 183, 8730, 8470, 164, 9632, 160]
set_option maxRecDepth 100000 in
theorem tabZ_0 : (List.range 256).map (fun n => signZ 0 n) = tabZ 0 := by decide +kernel
set_option maxRecDepth 100000 in
theorem tabZ_1 : (List.range 256).map (fun n => signZ 1 n) = tabZ 1 := by decide +kernel
set_option maxRecDepth 100000 in
theorem tabZ_2 : (List.range 256).map (fun n => signZ 2 n) = tabZ 2 := by decide +kernel
set_option maxRecDepth 100000 in
theorem tabZ_3 : (List.range 256).map (fun n => signZ 3 n) = tabZ 3 := by decide +kernel
end Go.Proofs.YtndopjmdpmkgeaaGreatDoor

namespace Go.Proofs.YtndopjmdpmkgeaaGreatDoor
open Go Go.RowKit
set_option linter.unusedSimpArgs false
set_option linter.unusedVariables false

/-- By rising codes, each once. -/
def Rising (l : List Pr) : Prop := l.Pairwise fun a b => a.1 < b.1
theorem Rising.nil : Rising [] := List.Pairwise.nil
theorem rising_cons {p : Pr} {l : List Pr} : Rising (p :: l) ↔ (∀ q ∈ l, p.1 < q.1) ∧ Rising l := List.pairwise_cons
/-- Has a row a code? -/
def has (l : List Pr) (c : Int) : Prop := ∃ p ∈ l, p.1 = c
theorem mem_putP (p q : Pr) : ∀ l : List Pr, q ∈ putP l p ↔ q = p ∨ q ∈ l
  | [] => by simp [putP]
  | r :: l => by
    unfold putP
    split
    · simp
    · have ih := mem_putP p q l
      simp only [List.mem_cons, ih]
      constructor
      · rintro (h | h | h)
        · exact .inr (.inl h)
        · exact .inl h
        · exact .inr (.inr h)
      · rintro (h | h | h)
        · exact .inr (.inl h)
        · exact .inl h
        · exact .inr (.inr h)
theorem rising_putP {p : Pr} : ∀ {l : List Pr}, Rising l → ¬ has l p.1 → Rising (putP l p)
  | [], _, _ => by simp [putP, Rising]
  | r :: l, h, hn => by
    have h1 := rising_cons.1 h
    unfold putP
    split
    · rename_i hlt
      refine rising_cons.2 ⟨fun q hq => ?_, h⟩
      rcases List.mem_cons.1 hq with rfl | hq
      · exact hlt
      · have := h1.1 q hq
        omega
    · rename_i hlt
      have hne : r.1 ≠ p.1 := fun e => hn ⟨r, by simp, e⟩
      have ih := rising_putP h1.2 (fun ⟨q, hq, e⟩ => hn ⟨q, by simp [hq], e⟩)
      refine rising_cons.2 ⟨fun q hq => ?_, ih⟩
      rcases (mem_putP p q l).1 hq with rfl | hq
      · omega
      · exact h1.1 q hq
theorem findGo_iff (c : Int) : ∀ (l : List Pr) (k : Nat), 0 ≤ findGo c k l ↔ has l c
  | [], _ => by simp [findGo, has]
  | p :: l, k => by
    unfold findGo
    split
    · rename_i e
      exact ⟨fun _ => ⟨p, by simp, e⟩, fun _ => by omega⟩
    · rename_i e
      rw [findGo_iff c l (k + 1)]
      constructor
      · rintro ⟨q, hq, h⟩
        exact ⟨q, by simp [hq], h⟩
      · rintro ⟨q, hq, h⟩
        rcases List.mem_cons.1 hq with rfl | hq
        · exact absurd h e
        · exact ⟨q, hq, h⟩
theorem findP_iff (l : List Pr) (c : Int) : 0 ≤ findP l c ↔ has l c := findGo_iff c l 0
theorem findP_not (l : List Pr) (c : Int) : findP l c < 0 ↔ ¬ has l c := by
  rw [← findP_iff]
  omega
/-- Rows by rising codes that have the same pairs are the same. -/
theorem rising_ext : ∀ {l m : List Pr}, Rising l → Rising m → (∀ p, p ∈ l ↔ p ∈ m) → l = m
  | [], [], _, _, _ => rfl
  | [], q :: m, _, _, h => by have := (h q).2 (by simp); simp at this
  | p :: l, [], _, _, h => by have := (h p).1 (by simp); simp at this
  | p :: l, q :: m, hl, hm, h => by
    have h1 := rising_cons.1 hl
    have h2 := rising_cons.1 hm
    have e : p = q := by
      rcases List.mem_cons.1 ((h p).1 (by simp)) with e | e
      · exact e
      · rcases List.mem_cons.1 ((h q).2 (by simp)) with e2 | e2
        · exact e2.symm
        · have := h2.1 p e
          have := h1.1 q e2
          omega
    subst e
    rw [rising_ext h1.2 h2.2 (fun r => by
      constructor
      · intro hr
        rcases List.mem_cons.1 ((h r).1 (by simp [hr])) with e | e
        · subst e
          have := h1.1 r hr
          omega
        · exact e
      · intro hr
        rcases List.mem_cons.1 ((h r).2 (by simp [hr])) with e | e
        · subst e
          have := h2.1 r hr
          omega
        · exact e)]
theorem mem_foldl_put (q : Pr) : ∀ (more l : List Pr), q ∈ more.foldl putP l ↔ q ∈ l ∨ q ∈ more
  | [], l => by simp
  | p :: more, l => by
    rw [List.foldl_cons, mem_foldl_put q more, mem_putP, List.mem_cons]
    constructor
    · rintro ((h | h) | h)
      · exact .inr (.inl h)
      · exact .inl h
      · exact .inr (.inr h)
    · rintro (h | h | h)
      · exact .inl (.inr h)
      · exact .inl (.inl h)
      · exact .inr h
theorem rising_foldl : ∀ {more l : List Pr}, Rising l → Rising more → (∀ q ∈ more, ¬ has l q.1) → Rising (more.foldl putP l)
  | [], l, h, _, _ => h
  | p :: more, l, h, hm, hn => by
    have h1 := rising_cons.1 hm
    rw [List.foldl_cons]
    refine rising_foldl (rising_putP h (hn p (by simp))) h1.2 (fun q hq => ?_)
    rintro ⟨r, hr, e⟩
    rcases (mem_putP p r l).1 hr with rfl | hr
    · have := h1.1 q hq
      omega
    · exact hn q (by simp [hq]) ⟨r, hr, e⟩
theorem rising_joinP {l more r : List Pr} (hl : Rising l) (hm : Rising more) (h : joinP l more = some r) : Rising r ∧ ∀ q, q ∈ r ↔ q ∈ l ∨ q ∈ more := by
  obtain ⟨h1, h2⟩ := joinP_some h
  rw [← h2]
  refine ⟨rising_foldl hl hm (fun q hq => ?_), fun q => mem_foldl_put q more l⟩
  obtain ⟨i, hi⟩ := List.getElem?_of_mem hq
  exact (findP_not l q.1).1 (h1 i q hi)
theorem over_go (l : List Pr) : ∀ (other out : List Pr), Rising other → Rising out → (∀ q ∈ other, ¬ has l q.1 → ¬ has out q.1) →
    Rising (other.foldl (fun out q => if findP l q.1 < 0 then putP out q else out) out) ∧ ∀ q, q ∈ other.foldl (fun out q => if findP l q.1 < 0 then putP out q else out) out ↔ q ∈ out ∨ (q ∈ other ∧ ¬ has l q.1)
  | [], out, _, ho, _ => ⟨ho, fun q => by simp⟩
  | p :: other, out, hm, ho, hn => by
    have h1 := rising_cons.1 hm
    rw [List.foldl_cons]
    by_cases hf : findP l p.1 < 0
    · have hp := (findP_not l p.1).1 hf
      rw [if_pos hf]
      obtain ⟨g1, g2⟩ := over_go l other (putP out p) h1.2 (rising_putP ho (hn p (by simp) hp)) (fun q hq hq2 => by
        rintro ⟨r, hr, e⟩
        rcases (mem_putP p r out).1 hr with rfl | hr
        · have := h1.1 q hq
          omega
        · exact hn q (by simp [hq]) hq2 ⟨r, hr, e⟩)
      refine ⟨g1, fun q => ?_⟩
      rw [g2 q, mem_putP, List.mem_cons]
      constructor
      · rintro ((h | h) | h)
        · subst h
          exact .inr ⟨.inl rfl, hp⟩
        · exact .inl h
        · exact .inr ⟨.inr h.1, h.2⟩
      · rintro (h | ⟨h | h, h3⟩)
        · exact .inl (.inr h)
        · exact .inl (.inl h)
        · exact .inr ⟨h, h3⟩
    · have hp : has l p.1 := (findP_iff l p.1).1 (by omega)
      rw [if_neg hf]
      obtain ⟨g1, g2⟩ := over_go l other out h1.2 ho (fun q hq hq2 => hn q (by simp [hq]) hq2)
      refine ⟨g1, fun q => ?_⟩
      rw [g2 q, List.mem_cons]
      constructor
      · rintro (h | h)
        · exact .inl h
        · exact .inr ⟨.inr h.1, h.2⟩
      · rintro (h | ⟨h | h, h3⟩)
        · exact .inl h
        · subst h
          exact absurd hp h3
        · exact .inr ⟨h, h3⟩
theorem rising_overP {l other : List Pr} (hl : Rising l) (ho : Rising other) : Rising (overP l other) ∧ ∀ q, q ∈ overP l other ↔ q ∈ l ∨ (q ∈ other ∧ ¬ has l q.1) :=
  over_go l other l ho hl (fun q _ h => h)
theorem rising_pairsN (f0 : Int) (f : Nat → Int) (n : Nat) : Rising (pairsN f0 f n) := by
  induction n with
  | zero => exact Rising.nil
  | succ n ih =>
    rw [pairsN_succ]
    refine List.pairwise_append.2 ⟨ih, List.pairwise_singleton _ _, fun a ha b hb => ?_⟩
    obtain rfl := List.mem_singleton.1 hb
    unfold pairsN at ha
    obtain ⟨i, hi, rfl⟩ := List.mem_map.1 ha
    have := List.mem_range.1 hi
    show f0 + (i : Int) < f0 + (n : Int)
    omega
/-- All codes are from 0 on. -/
def From0 (l : List Pr) : Prop := ∀ q ∈ l, 0 ≤ q.1 ∧ isSign q.2 = true
theorem sgn_signs (x : ByteArray) : allSigns (sgn x) = true := runesL_signs _ x.data.toList (Nat.le_refl _)
theorem pieceP_good {f t c : Int} {x : ByteArray} {more : List Pr} (h : pieceP f t c x = some more) : Rising more ∧ From0 more := by
  unfold pieceP at h
  split at h
  · split at h
    · cases h
    · rename_i hn
      have := Option.some.inj h
      subst this
      simp only [not_or, Bool.not_eq_false] at hn
      obtain ⟨n1, n2, n3, n4, n5, n6, n7⟩ := hn
      refine ⟨rising_pairsN _ _ _, fun q hq => ?_⟩
      unfold pairsN at hq
      obtain ⟨i, hi, rfl⟩ := List.mem_map.1 hq
      have hi := List.mem_range.1 hi
      have s1 := (isSign_iff _).1 n5
      have s2 := (isSign_iff _).1 n6
      exact ⟨by show 0 ≤ f + (i : Int); omega, (isSign_iff _).2 (by show (0 ≤ t + (i : Int) ∧ t + (i : Int) < 55296) ∨ (57343 < t + (i : Int) ∧ t + (i : Int) ≤ 1114111); omega)⟩
  · split at h
    · cases h
    · rename_i hn0 hn
      have := Option.some.inj h
      subst this
      simp only [not_or, Decidable.not_not] at hn
      obtain ⟨n1, n2, n3⟩ := hn
      refine ⟨rising_pairsN _ _ _, fun q hq => ?_⟩
      unfold pairsN at hq
      obtain ⟨i, hi, rfl⟩ := List.mem_map.1 hq
      have hi := List.mem_range.1 hi
      refine ⟨by show 0 ≤ f + (i : Int); omega, ?_⟩
      show isSign ((sgn x).getD i 0) = true
      have ha := sgn_signs x
      unfold allSigns at ha
      rw [List.all_eq_true] at ha
      have : (sgn x).getD i 0 = (sgn x)[i] := by simp [List.getD, hi]
      rw [this]
      exact ha _ (List.getElem_mem hi)
/-- What leads back: the least code of a sign. -/
theorem revP_iff : ∀ {l : List Pr}, Rising l → From0 l → ∀ p : Int, (revP l p < 0 ∧ ∀ q ∈ l, q.2 ≠ p) ∨ (0 ≤ revP l p ∧ (revP l p, p) ∈ l ∧ ∀ q ∈ l, q.2 = p → revP l p ≤ q.1)
  | [], _, _, p => .inl ⟨by simp [revP], fun q hq => by simp at hq⟩
  | r :: l, h, k, p => by
    have h1 := rising_cons.1 h
    unfold revP
    split
    · rename_i e
      refine .inr ⟨(k r (by simp)).1, by subst e; simp, fun q hq _ => ?_⟩
      rcases List.mem_cons.1 hq with rfl | hq
      · exact Int.le_refl _
      · have := h1.1 q hq
        omega
    · rename_i e
      rcases revP_iff h1.2 (fun q hq => k q (by simp [hq])) p with ⟨g1, g2⟩ | ⟨g1, g2, g3⟩
      · refine .inl ⟨g1, fun q hq => ?_⟩
        rcases List.mem_cons.1 hq with rfl | hq
        · exact e
        · exact g2 q hq
      · refine .inr ⟨g1, by simp [g2], fun q hq hp => ?_⟩
        rcases List.mem_cons.1 hq with rfl | hq
        · exact absurd hp e
        · exact g3 q hq hp
end Go.Proofs.YtndopjmdpmkgeaaGreatDoor

