/-
  Layer 12, plainly: what is printed is read as it was (2).
-/
import Derived.Test.YtbdjncnofpbkkaaTa7
namespace Go.Proofs.Ytbdjncnofpbkkaa
open Go Go.RowKit
set_option linter.unusedSimpArgs false
set_option linter.unusedVariables false

theorem mid {α : Type} (A p R : List α) (a n : Nat) (ha : A.length = a) (hp : p.length = n) : ((A ++ (p ++ R)).drop a).take n = p := by
  rw [← ha, List.drop_left, ← hp, List.take_left]
theorem cutL_pad : ∀ (l : List UInt8) (m : Nat), cutL l = l → cutL (l ++ List.replicate m 0) = l
  | [], 0, _ => rfl
  | [], m + 1, _ => rfl
  | x :: l, m, h => by
    unfold cutL at h
    by_cases hx : x.toNat = 0
    · rw [if_pos hx] at h; cases h
    · rw [if_neg hx] at h
      show cutL (x :: (l ++ List.replicate m 0)) = _
      unfold cutL
      rw [if_neg hx, cutL_pad l m (List.cons.inj h).2]
theorem cut_list {x : ByteArray} (h : cutZ x = x) : cutL x.data.toList = x.data.toList := by
  have := congrArg (fun b : ByteArray => b.data.toList) h
  exact this
theorem cut_nonzero : ∀ (l : List UInt8), cutL l = l → ∀ (j : Nat) (y : UInt8), l[j]? = some y → y.toNat ≠ 0
  | [], _, j, y, hy => by simp at hy
  | x :: l, h, j, y, hy => by
    unfold cutL at h
    by_cases hx : x.toNat = 0
    · rw [if_pos hx] at h; cases h
    · rw [if_neg hx] at h
      match j, hy with
      | 0, hy => simp at hy; subst hy; exact hx
      | j + 1, hy => exact cut_nonzero l (List.cons.inj h).2 j y (by simpa using hy)
structure SizesT (T : TailZ) : Prop where
  s0 : T.t0.size ≤ 30
  s1 : T.t1.size ≤ 30
  s2 : T.t2.size ≤ 30
  s3 : T.t3.size ≤ 4
  s4 : T.t4.size ≤ w4 T.track
  c0 : cutZ T.t0 = T.t0
  c1 : cutZ T.t1 = T.t1
  c2 : cutZ T.t2 = T.t2
  c3 : cutZ T.t3 = T.t3
  c4 : cutZ T.t4 = T.t4
theorem sizes_of {T : TailZ} (h : GoodT T) : SizesT T := by
  have s0 := h.fits 0 (by decide) (by decide)
  have s1 := h.fits 1 (by decide) (by decide)
  have s2 := h.fits 2 (by decide) (by decide)
  have s3 := h.fits 3 (by decide) (by decide)
  have s4 := h.fits 4 (by decide) (by decide)
  refine ⟨?_, ?_, ?_, ?_, ?_, h.cut 0 (by decide) (by decide), h.cut 1 (by decide) (by decide), h.cut 2 (by decide) (by decide), h.cut 3 (by decide) (by decide), h.cut 4 (by decide) (by decide)⟩
  · rw [show T.tx 0 = T.t0 from rfl, show widthZ 0 T.track = 30 by unfold widthZ; simp] at s0; omega
  · rw [show T.tx 1 = T.t1 from rfl, show widthZ 1 T.track = 30 by unfold widthZ; simp] at s1; omega
  · rw [show T.tx 2 = T.t2 from rfl, show widthZ 2 T.track = 30 by unfold widthZ; simp] at s2; omega
  · rw [show T.tx 3 = T.t3 from rfl, show widthZ 3 T.track = 4 by unfold widthZ; simp] at s3; omega
  · rw [show T.tx 4 = T.t4 from rfl] at s4
    unfold widthZ at s4
    unfold w4
    by_cases hk : T.track = 0
    · simp [hk] at s4 ⊢; omega
    · simp [hk] at s4 ⊢; omega
theorem cut_pad {x : ByteArray} (h : cutZ x = x) (n : Nat) (s : ByteArray) (a b : Nat) (he : (s.extract a b).data.toList = padL x n) : cutZ (s.extract a b) = x := by
  unfold cutZ
  rw [he]
  unfold padL
  rw [cutL_pad _ _ (cut_list h)]
  rfl
theorem w4_width (k : Int) : widthZ 4 k = w4 k := by
  unfold widthZ w4
  by_cases h : k = 0 <;> simp [h]
/-- The last three bytes of what is printed. -/
theorem print_tail (T : TailZ) (h : SizesT T) (t0 : 0 ≤ T.track) (t1 : T.track < 256) (g0 : 0 ≤ T.genre) (g1 : T.genre < 256) :
    (if ((printL T).getD 125 0).toNat = 0 then ((printL T).getD 126 0).toNat else 0) = T.track.toNat ∧ ((printL T).getD 127 0).toNat = T.genre.toNat := by
  have lg : ((T.genre % 256).toNat.toUInt8).toNat = T.genre.toNat := by
    rw [Int.emod_eq_of_lt g0 g1]
    simp
    omega
  by_cases hk : T.track = 0
  · have e : printL T = ([84, 65, 71] ++ padL T.t0 30 ++ padL T.t1 30 ++ padL T.t2 30 ++ padL T.t3 4) ++ (padL T.t4 30 ++ [(T.genre % 256).toNat.toUInt8]) := by
      unfold printL w4 trL
      simp [hk]
    have hs4 := h.s4
    unfold w4 at hs4
    rw [if_pos hk] at hs4
    have hl : ([84, 65, 71] ++ padL T.t0 30 ++ padL T.t1 30 ++ padL T.t2 30 ++ padL T.t3 4 : List UInt8).length = 97 := by
      simp only [List.length_append, padL_len _ _ h.s0, padL_len _ _ h.s1, padL_len _ _ h.s2, padL_len _ _ h.s3]
      rfl
    have hp := padL_len _ _ hs4
    have at' : ∀ j, (printL T).getD (97 + j) 0 = (padL T.t4 30 ++ [(T.genre % 256).toNat.toUInt8]).getD j 0 := fun j => by
      rw [e, List.getD_eq_getElem?_getD, List.getD_eq_getElem?_getD, List.getElem?_append_right (by omega), hl, Nat.add_sub_cancel_left]
    have a28 := at' 28
    have a29 := at' 29
    have a30 := at' 30
    rw [show 97 + 28 = 125 from rfl] at a28
    rw [show 97 + 29 = 126 from rfl] at a29
    rw [show 97 + 30 = 127 from rfl] at a30
    rw [a28, a29, a30]
    refine ⟨?_, ?_⟩
    · rw [List.getD_eq_getElem?_getD, List.getD_eq_getElem?_getD, List.getElem?_append_left (by omega), List.getElem?_append_left (by omega), hk]
      have hz : ∀ j, T.t4.size ≤ j → ((padL T.t4 30)[j]?.getD 0).toNat = 0 := fun j hj => by
        unfold padL
        rw [List.getElem?_append_right (show T.t4.data.toList.length ≤ j from hj), List.getElem?_replicate]
        split <;> rfl
      have hnz : ∀ j, j < T.t4.size → ((padL T.t4 30)[j]?.getD 0).toNat ≠ 0 := fun j hj => by
        unfold padL
        rw [List.getElem?_append_left (show j < T.t4.data.toList.length from hj)]
        have hsome : T.t4.data.toList[j]? = some (T.t4.data.toList[j]'hj) := List.getElem?_eq_getElem hj
        rw [hsome]
        exact cut_nonzero _ (cut_list h.c4) j _ hsome
      split
      · rename_i h0
        have : ¬ 28 < T.t4.size := fun hj => hnz 28 hj h0
        exact hz 29 (by omega)
      · rfl
    · rw [List.getD_eq_getElem?_getD, List.getElem?_append_right (by omega), hp]
      exact lg
  · have e : printL T = ([84, 65, 71] ++ padL T.t0 30 ++ padL T.t1 30 ++ padL T.t2 30 ++ padL T.t3 4 ++ padL T.t4 28) ++ [0, (T.track % 256).toNat.toUInt8, (T.genre % 256).toNat.toUInt8] := by
      unfold printL w4 trL
      simp [hk]
    have hs4 := h.s4
    unfold w4 at hs4
    rw [if_neg hk] at hs4
    have hl : ([84, 65, 71] ++ padL T.t0 30 ++ padL T.t1 30 ++ padL T.t2 30 ++ padL T.t3 4 ++ padL T.t4 28 : List UInt8).length = 125 := by
      simp only [List.length_append, padL_len _ _ h.s0, padL_len _ _ h.s1, padL_len _ _ h.s2, padL_len _ _ h.s3, padL_len _ _ hs4]
      rfl
    have at' : ∀ j, (printL T).getD (125 + j) 0 = ([0, (T.track % 256).toNat.toUInt8, (T.genre % 256).toNat.toUInt8] : List UInt8).getD j 0 := fun j => by
      rw [e, List.getD_eq_getElem?_getD, List.getD_eq_getElem?_getD, List.getElem?_append_right (by omega), hl, Nat.add_sub_cancel_left]
    have a0 := at' 0
    have a1 := at' 1
    have a2 := at' 2
    rw [show 125 + 0 = 125 from rfl] at a0
    rw [show 125 + 1 = 126 from rfl] at a1
    rw [show 125 + 2 = 127 from rfl] at a2
    rw [a0, a1, a2]
    refine ⟨?_, lg⟩
    show (if (0 : UInt8).toNat = 0 then ((T.track % 256).toNat.toUInt8).toNat else 0) = _
    rw [if_pos (show (0 : UInt8).toNat = 0 from rfl), Int.emod_eq_of_lt t0 t1]
    simp
    omega
theorem print_size (T : TailZ) (h : GoodT T) : (printZ T).size = 128 := by
  have := printL_len T h
  rw [← print_list] at this
  exact this
/-- What is printed is read as it was. -/
theorem parse_print (T : TailZ) (h : GoodT T) (t0 : 0 ≤ T.track) (t1 : T.track < 256) (g0 : 0 ≤ T.genre) (g1 : T.genre < 256) : parseZ (printZ T) = T := by
  have S := sizes_of h
  obtain ⟨ht, hg⟩ := print_tail T S t0 t1 g0 g1
  have hL := print_list T
  have htr : trackZ (printZ T) = T.track := by
    unfold trackZ
    rw [hL]
    have : ((if ((printL T).getD 125 0).toNat = 0 then ((printL T).getD 126 0).toNat else 0 : Nat) : Int) = T.track := by rw [ht]; omega
    rw [← this]
    split <;> rfl
  have hge : (((printZ T).data.toList.getD 127 0).toNat : Int) = T.genre := by
    rw [hL, hg]
    omega
  have f0 : fieldZ (printZ T) 0 = T.t0 := by
    unfold fieldZ
    rw [htr, show widthZ 0 T.track = 30 by unfold widthZ; simp]
    refine cut_pad S.c0 30 _ _ _ ?_
    rw [ext_list, hL]
    exact mid [84, 65, 71] (padL T.t0 30) _ 3 30 rfl (padL_len _ _ S.s0)
  have f1 : fieldZ (printZ T) 1 = T.t1 := by
    unfold fieldZ
    rw [htr, show widthZ 1 T.track = 30 by unfold widthZ; simp]
    refine cut_pad S.c1 30 _ _ _ ?_
    rw [ext_list, hL]
    have e : printL T = ([84, 65, 71] ++ padL T.t0 30) ++ (padL T.t1 30 ++ (padL T.t2 30 ++ (padL T.t3 4 ++ (padL T.t4 (w4 T.track) ++ (trL T.track ++ [(T.genre % 256).toNat.toUInt8]))))) := by
      unfold printL; simp
    rw [e]
    exact mid _ (padL T.t1 30) _ 33 30 (by simp only [List.length_append, padL_len _ _ S.s0]; rfl) (padL_len _ _ S.s1)
  have f2 : fieldZ (printZ T) 2 = T.t2 := by
    unfold fieldZ
    rw [htr, show widthZ 2 T.track = 30 by unfold widthZ; simp]
    refine cut_pad S.c2 30 _ _ _ ?_
    rw [ext_list, hL]
    have e : printL T = ([84, 65, 71] ++ padL T.t0 30 ++ padL T.t1 30) ++ (padL T.t2 30 ++ (padL T.t3 4 ++ (padL T.t4 (w4 T.track) ++ (trL T.track ++ [(T.genre % 256).toNat.toUInt8])))) := by
      unfold printL; simp
    rw [e]
    exact mid _ (padL T.t2 30) _ 63 30 (by simp only [List.length_append, padL_len _ _ S.s0, padL_len _ _ S.s1]; rfl) (padL_len _ _ S.s2)
  have f3 : fieldZ (printZ T) 3 = T.t3 := by
    unfold fieldZ
    rw [htr, show widthZ 3 T.track = 4 by unfold widthZ; simp]
    refine cut_pad S.c3 4 _ _ _ ?_
    rw [ext_list, hL]
    have e : printL T = ([84, 65, 71] ++ padL T.t0 30 ++ padL T.t1 30 ++ padL T.t2 30) ++ (padL T.t3 4 ++ (padL T.t4 (w4 T.track) ++ (trL T.track ++ [(T.genre % 256).toNat.toUInt8]))) := by
      unfold printL; simp
    rw [e]
    exact mid _ (padL T.t3 4) _ 93 4 (by simp only [List.length_append, padL_len _ _ S.s0, padL_len _ _ S.s1, padL_len _ _ S.s2]; rfl) (padL_len _ _ S.s3)
  have f4 : fieldZ (printZ T) 4 = T.t4 := by
    unfold fieldZ
    rw [htr, w4_width]
    refine cut_pad S.c4 (w4 T.track) _ _ _ ?_
    rw [ext_list, hL]
    have e : printL T = ([84, 65, 71] ++ padL T.t0 30 ++ padL T.t1 30 ++ padL T.t2 30 ++ padL T.t3 4) ++ (padL T.t4 (w4 T.track) ++ (trL T.track ++ [(T.genre % 256).toNat.toUInt8])) := by
      unfold printL; simp
    rw [e]
    have o : offZ 4 = 97 := rfl
    rw [o, show ((97 : Int) + (w4 T.track : Int)).toNat - (97 : Int).toNat = w4 T.track by omega, show (97 : Int).toNat = 97 from rfl]
    exact mid _ (padL T.t4 (w4 T.track)) _ 97 (w4 T.track) (by simp only [List.length_append, padL_len _ _ S.s0, padL_len _ _ S.s1, padL_len _ _ S.s2, padL_len _ _ S.s3]; rfl) (padL_len _ _ S.s4)
  unfold parseZ
  rw [f0, f1, f2, f3, f4, htr, hge]
/-- What is printed begins with TAG. -/
theorem print_mark (T : TailZ) (s : ByteArray) : ((s ++ printZ T).data.toList.drop s.size).take 3 = [84, 65, 71] := by
  rw [app_list, print_list]
  exact mid _ [84, 65, 71] _ s.size 3 rfl rfl
end Go.Proofs.Ytbdjncnofpbkkaa
