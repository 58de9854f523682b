/-
  The document's answers of layer 5 (1): the sign of a text at a place.
  The document's answers of layer 5 (2): the sign of a byte.
  The document's answers of layer 5 (3): the byte of a sign, bytes as a text, signs as bytes.
  The document's answers of layer 5 (4), plainly: no sign has two bytes.
-/
import Derived.Test.YtabcneomeemnpaaDoorRnA
namespace Go.Proofs.YtabcneomeemnpaaDoor
open Go Go.ChangeShapes Go.WideShapes Go.ChangeAt Go.RowKit
set_option linter.unusedSimpArgs false
set_option linter.unusedVariables false

/-- What is left to be gone: m signs ahead of the one that is asked. -/
def NthTo (s : ByteArray) (v : Int) (i m : Nat) : Prop := (runesL (s.data.toList.drop i))[m]? = some v ∧ badL i (s.data.toList.drop i) < 0
theorem NthTo.in_text {s : ByteArray} {v : Int} {i m : Nat} (h : NthTo s v i m) : i < s.size := by
  rcases Nat.lt_or_ge i s.size with h2 | h2
  · exact h2
  · have e : s.data.toList.drop i = [] := List.drop_eq_nil_of_le h2
    have := h.1
    rw [e, runesL_nil] at this
    simp at this
theorem NthTo.good {s : ByteArray} {v : Int} {i m : Nat} (h : NthTo s v i m) : ¬ ((Lib.decodeL (s.data.toList.drop i)).1 = 65533 ∧ (Lib.decodeL (s.data.toList.drop i)).2 = 1) := by
  intro hb
  have h2 := h.2
  rw [badL_step i _ (drop_ne h.in_text), if_pos hb] at h2
  omega
theorem NthTo.here {s : ByteArray} {v : Int} {i : Nat} (h : NthTo s v i 0) : ((Lib.decodeL (s.data.toList.drop i)).1 : Int) = v := by
  have h1 := h.1
  rw [runesL_step _ (drop_ne h.in_text)] at h1
  simpa using h1
theorem NthTo.next {s : ByteArray} {v : Int} {i m : Nat} (h : NthTo s v i (m + 1)) : NthTo s v (i + (Lib.decodeL (s.data.toList.drop i)).2) m := by
  have h1 := h.1
  have h2 := h.2
  have hne := drop_ne h.in_text
  rw [runesL_step _ hne, List.drop_drop] at h1
  rw [badL_step i _ hne, if_neg h.good, List.drop_drop] at h2
  exact ⟨by simpa using h1, h2⟩
end Go.Proofs.YtabcneomeemnpaaDoor
namespace Go.Proofs.YtabcneomeemnpaaDoor
open Go Go.ChangeShapes Go.WideShapes Go.ChangeAt Go.RowKit
set_option linter.unusedSimpArgs false
set_option linter.unusedVariables false

/-- The signs of KOI8-R from 128 on; those of CP866 from 176 on, and from 240 on. -/
def russL : List Int := [9472, 9474, 9484, 9488, 9492, 9496, 9500, 9508, 9516, 9524, 9532, 9600, 9604, 9608, 9612, 9616, 9617, 9618, 9619, 8992, 9632, 8729, 8730, 8776, 8804, 8805, 160, 8993, 176, 178, 183, 247, 9552, 9553, 9554, 1105, 9555, 9556, 9557, 9558, 9559, 9560, 9561, 9562, 9563, 9564, 9565, 9566, 9567, 9568, 9569, 1025, 9570, 9571, 9572, 9573, 9574, 9575, 9576, 9577, 9578, 9579, 9580, 169, 1102, 1072, 1073, 1094, 1076, 1077, 1092, 1075, 1093, 1080, 1081, 1082, 1083, 1084, 1085, 1086, 1087, 1103, 1088, 1089, 1090, 1091, 1078, 1074, 1100, 1099, 1079, 1096, 1101, 1097, 1095, 1098, 1070, 1040, 1041, 1062, 1044, 1045, 1060, 1043, 1061, 1048, 1049, 1050, 1051, 1052, 1053, 1054, 1055, 1071, 1056, 1057, 1058, 1059, 1046, 1042, 1068, 1067, 1047, 1064, 1069, 1065, 1063, 1066]
def frameL : List Int := [9617, 9618, 9619, 9474, 9508, 9569, 9570, 9558, 9557, 9571, 9553, 9559, 9565, 9564, 9563, 9488, 9492, 9524, 9516, 9500, 9472, 9532, 9566, 9567, 9562, 9556, 9577, 9574, 9568, 9552, 9580, 9575, 9576, 9572, 9573, 9561, 9560, 9554, 9555, 9579, 9578, 9496, 9484, 9608, 9604, 9612, 9616, 9600]
def otherL : List Int := [1025, 1105, 1028, 1108, 1031, 1111, 1038, 1118, 176, 8729, 183, 8730, 8470, 164, 9632, 160]
/-- The sign of a byte, in one of the four. -/
def signZ (c : Int) (n : Nat) : Int :=
  if c = 0 ∨ n < 128 then n
  else if c = 3 then (if n < 176 then 912 + (n : Int) else if n < 224 then frameL.getD (n - 176) 0 else if n < 240 then 864 + (n : Int) else otherL.getD (n - 240) 0)
  else if c = 2 ∧ n = 164 then 1108 else if c = 2 ∧ n = 166 then 1110 else if c = 2 ∧ n = 167 then 1111 else if c = 2 ∧ n = 173 then 1169
  else if c = 2 ∧ n = 180 then 1028 else if c = 2 ∧ n = 182 then 1030 else if c = 2 ∧ n = 183 then 1031 else if c = 2 ∧ n = 189 then 1168
  else russL.getD (n - 128) 0
end Go.Proofs.YtabcneomeemnpaaDoor
namespace Go.Proofs.YtabcneomeemnpaaDoor
open Go Go.ChangeShapes Go.WideShapes Go.ChangeAt Go.RowKit
set_option linter.unusedSimpArgs false
set_option linter.unusedVariables false

/-- The least byte of a sign from n on, of so many bytes; -1: there is none. -/
def byteGo (c p : Int) : Nat → Nat → Int
  | 0, _ => -1
  | k + 1, n => if signZ c n = p then (n : Int) else byteGo c p k (n + 1)
def byteZ (c p : Int) : Int := byteGo c p 256 0
theorem byteGo_at (c p : Int) : ∀ (k n j : Nat), j < k → (∀ i, i < j → signZ c (n + i) ≠ p) → signZ c (n + j) = p → byteGo c p k n = ((n + j : Nat) : Int)
  | 0, _, _, h, _, _ => by omega
  | k + 1, n, 0, _, _, e => by rw [byteGo, if_pos (by simpa using e)]; rfl
  | k + 1, n, j + 1, h, hn, e => by
    have h0 := hn 0 (by omega)
    rw [byteGo, if_neg (by simpa using h0), byteGo_at c p k (n + 1) j (by omega) (fun i hi => by
      have := hn (i + 1) (by omega)
      rwa [show n + 1 + i = n + (i + 1) from by omega]) (by rwa [show n + 1 + j = n + (j + 1) from by omega])]
    omega
theorem byteGo_no (c p : Int) : ∀ (k n : Nat), (∀ i, i < k → signZ c (n + i) ≠ p) → byteGo c p k n = -1
  | 0, _, _ => rfl
  | k + 1, n, hn => by
    have h0 := hn 0 (by omega)
    rw [byteGo, if_neg (by simpa using h0), byteGo_no c p k (n + 1) (fun i hi => by
      have := hn (i + 1) (by omega)
      rwa [show n + 1 + i = n + (i + 1) from by omega])]
theorem byteGo_bd (c p : Int) : ∀ (k n : Nat), byteGo c p k n = -1 ∨ ((n : Int) ≤ byteGo c p k n ∧ byteGo c p k n < n + k)
  | 0, _ => .inl rfl
  | k + 1, n => by
    unfold byteGo
    split
    · exact .inr ⟨by omega, by omega⟩
    · rcases byteGo_bd c p k (n + 1) with h | h
      · exact .inl h
      · exact .inr ⟨by omega, by omega⟩
theorem byteZ_bd (c p : Int) : byteZ c p = -1 ∨ (0 ≤ byteZ c p ∧ byteZ c p < 256) := by
  have := byteGo_bd c p 256 0
  unfold byteZ
  omega
theorem signs_ok : ∀ c : Fin 4, ∀ n : Fin 256, isSign (signZ (c.val : Int) n.val) = true := by decide +kernel
theorem sign_sign (c : Int) (n : Nat) (hc0 : 0 ≤ c) (hc3 : c ≤ 3) (hn : n < 256) : isSign (signZ c n) = true := by
  obtain ⟨k, rfl⟩ := Int.eq_ofNat_of_zero_le hc0
  exact signs_ok ⟨k, by omega⟩ ⟨n, hn⟩
/-- The signs of bytes. -/
def decZ (c : Int) (l : List UInt8) : List Int := l.map fun x => signZ c x.toNat
theorem decZ_signs (c : Int) (l : List UInt8) (hc0 : 0 ≤ c) (hc3 : c ≤ 3) : allSigns (decZ c l) = true := by
  unfold allSigns decZ
  rw [List.all_map, List.all_eq_true]
  intro x hx
  exact sign_sign c x.toNat hc0 hc3 x.toNat_lt
/-- The place of the first sign that has no byte, that of the first sign being at; -1: all have. -/
def badZ (c : Int) : Nat → List Int → Int
  | _, [] => -1
  | a, p :: l => if byteZ c p < 0 then (a : Int) else badZ c (a + (Lib.encodeRune p).length) l
/-- The bytes of signs. -/
def encZ (c : Int) (l : List Int) : List UInt8 := l.map fun p => (byteZ c p).toNat.toUInt8
theorem badZ_bd (c : Int) : ∀ (l : List Int) (a : Nat), badZ c a l = -1 ∨ ((a : Int) ≤ badZ c a l ∧ badZ c a l ≤ a + (encs l).length)
  | [], _ => .inl rfl
  | p :: l, a => by
    unfold badZ
    rw [encs_cons, List.length_append]
    split
    · exact .inr ⟨by omega, by omega⟩
    · rcases badZ_bd c l (a + (Lib.encodeRune p).length) with h | h
      · exact .inl h
      · exact .inr ⟨by omega, by omega⟩
/-- How far signs are encoded. -/
def EncTo (c : Int) (zs : List Int) (k a : Nat) (u : ByteArray) : Prop := u.data.toList = encZ c (zs.take k) ∧ badZ c 0 zs = badZ c a (zs.drop k) ∧ a ≤ 4 * k
theorem drop_int {vs : List Int} {k : Nat} {v : Int} (h : vs[k]? = some v) : vs.drop k = v :: vs.drop (k + 1) := by
  obtain ⟨hlt, rfl⟩ := List.getElem?_eq_some_iff.1 h
  exact List.drop_eq_getElem_cons hlt
theorem one_byte (n : Int) (h0 : 0 ≤ n) (h1 : n < 256) : (strOfNums [n]).data.toList = [n.toNat.toUInt8] := by simp [strOfNums]
theorem IsRow.cell {w : World} {a : Option Addr} {n cap : Nat} {zs : List Int} (h : IsRow w a n cap zs) {k : Nat} (hk : k < n) : ∃ x off p, a = some ⟨x, off, none⟩ ∧ zs[k]? = some p ∧ ∀ w', Ext w w' → w'.cell? ⟨x, off + k, none⟩ = some (.int .i32 p) := by
  obtain ⟨h1, h2⟩ := h
  rcases h2 with h2 | ⟨x, off, rfl, hc, hcell⟩
  · omega
  · have hkl : k < zs.length := by omega
    have e : zs[k]? = some zs[k] := by simp [hkl]
    exact ⟨x, off, _, rfl, e, fun w' hx => (World.cell?_of_block (hx.block x (World.block_lt_of_cell? w _ (hcell k _ e)))).trans (hcell k _ e)⟩
end Go.Proofs.YtabcneomeemnpaaDoor
namespace Go.Proofs.YtabcneomeemnpaaDoor
open Go Go.RowKit
set_option linter.unusedSimpArgs false
set_option linter.unusedVariables false

/-- The signs of all bytes, in each of the four. -/
def tabZ : Nat → List Int
  | 0 => [0, 1, 2, 3, 4, 5, 6, 7, 8, 9, 10, 11, 12, 13, 14, 15, 16, 17, 18, 19, 20, 21, 22, 23, 24, 25, 26, 27, 28, 29, 30, 31, 32, 33, 34, 35, 36, 37, 38, 39, 40, 41, 42, 43, 44, 45, 46, 47, 48, 49, 50, 51, 52, 53, 54, 55, 56, 57, 58, 59, 60, 61, 62, 63, 64, 65, 66, 67, 68, 69, 70, 71, 72, 73, 74, 75, 76, 77, 78, 79, 80, 81, 82, 83, 84, 85, 86, 87, 88, 89, 90, 91, 92, 93, 94, 95, 96, 97, 98, 99, 100, 101, 102, 103, 104, 105, 106, 107, 108, 109, 110, 111, 112, 113, 114, 115, 116, 117, 118, 119, 120, 121, 122, 123, 124, 125, 126, 127, 128, 129, 130, 131, 132, 133, 134, 135, 136, 137, 138, 139, 140, 141, 142, 143, 144, 145, 146, 147, 148, 149, 150, 151, 152, 153, 154, 155, 156, 157, 158, 159, 160, 161, 162, 163, 164, 165, 166, 167, 168, 169, 170, 171, 172, 173, 174, 175, 176, 177, 178, 179, 180, 181, 182, 183, 184, 185, 186, 187, 188, 189, 190, 191, 192, 193, 194, 195, 196, 197, 198, 199, 200, 201, 202, 203, 204, 205, 206, 207, 208, 209, 210, 211, 212, 213, 214, 215, 216, 217, 218, 219, 220, 221, 222, 223, 224, 225, 226, 227, 228, 229, 230, 231, 232, 233, 234, 235, 236, 237, 238, 239, 240, 241, 242, 243, 244, 245, 246, 247, 248, 249, 250, 251, 252, 253, 254, 255]
  | 1 => [0, 1, 2, 3, 4, 5, 6, 7, 8, 9, 10, 11, 12, 13, 14, 15, 16, 17, 18, 19, 20, 21, 22, 23, 24, 25, 26, 27, 28, 29, 30, 31, 32, 33, 34, 35, 36, 37, 38, 39, 40, 41, 42, 43, 44, 45, 46, 47, 48, 49, 50, 51, 52, 53, 54, 55, 56, 57, 58, 59, 60, 61, 62, 63, 64, 65, 66, 67, 68, 69, 70, 71, 72, 73, 74, 75, 76, 77, 78, 79, 80, 81, 82, 83, 84, 85, 86, 87, 88, 89, 90, 91, 92, 93, 94, 95, 96, 97, 98, 99, 100, 101, 102, 103, 104, 105, 106, 107, 108, 109, 110, 111, 112, 113, 114, 115, 116, 117, 118, 119, 120, 121, 122, 123, 124, 125, 126, 127, 9472, 9474, 9484, 9488, 9492, 9496, 9500, 9508, 9516, 9524, 9532, 9600, 9604, 9608, 9612, 9616, 9617, 9618, 9619, 8992, 9632, 8729, 8730, 8776, 8804, 8805, 160, 8993, 176, 178, 183, 247, 9552, 9553, 9554, 1105, 9555, 9556, 9557, 9558, 9559, 9560, 9561, 9562, 9563, 9564, 9565, 9566, 9567, 9568, 9569, 1025, 9570, 9571, 9572, 9573, 9574, 9575, 9576, 9577, 9578, 9579, 9580, 169, 1102, 1072, 1073, 1094, 1076, 1077, 1092, 1075, 1093, 1080, 1081, 1082, 1083, 1084, 1085, 1086, 1087, 1103, 1088, 1089, 1090, 1091, 1078, 1074, 1100, 1099, 1079, 1096, 1101, 1097, 1095, 1098, 1070, 1040, 1041, 1062, 1044, 1045, 1060, 1043, 1061, 1048, 1049, 1050, 1051, 1052, 1053, 1054, 1055, 1071, 1056, 1057, 1058, 1059, 1046, 1042, 1068, 1067, 1047, 1064, 1069, 1065, 1063, 1066]
  | 2 => [0, 1, 2, 3, 4, 5, 6, 7, 8, 9, 10, 11, 12, 13, 14, 15, 16, 17, 18, 19, 20, 21, 22, 23, 24, 25, 26, 27, 28, 29, 30, 31, 32, 33, 34, 35, 36, 37, 38, 39, 40, 41, 42, 43, 44, 45, 46, 47, 48, 49, 50, 51, 52, 53, 54, 55, 56, 57, 58, 59, 60, 61, 62, 63, 64, 65, 66, 67, 68, 69, 70, 71, 72, 73, 74, 75, 76, 77, 78, 79, 80, 81, 82, 83, 84, 85, 86, 87, 88, 89, 90, 91, 92, 93, 94, 95, 96, 97, 98, 99, 100, 101, 102, 103, 104, 105, 106, 107, 108, 109, 110, 111, 112, 113, 114, 115, 116, 117, 118, 119, 120, 121, 122, 123, 124, 125, 126, 127, 9472, 9474, 9484, 9488, 9492, 9496, 9500, 9508, 9516, 9524, 9532, 9600, 9604, 9608, 9612, 9616, 9617, 9618, 9619, 8992, 9632, 8729, 8730, 8776, 8804, 8805, 160, 8993, 176, 178, 183, 247, 9552, 9553, 9554, 1105, 1108, 9556, 1110, 1111, 9559, 9560, 9561, 9562, 9563, 1169, 9565, 9566, 9567, 9568, 9569, 1025, 1028, 9571, 1030, 1031, 9574, 9575, 9576, 9577, 9578, 1168, 9580, 169, 1102, 1072, 1073, 1094, 1076, 1077, 1092, 1075, 1093, 1080, 1081, 1082, 1083, 1084, 1085, 1086, 1087, 1103, 1088, 1089, 1090, 1091, 1078, 1074, 1100, 1099, 1079, 1096, 1101, 1097, 1095, 1098, 1070, 1040, 1041, 1062, 1044, 1045, 1060, 1043, 1061, 1048, 1049, 1050, 1051, 1052, 1053, 1054, 1055, 1071, 1056, 1057, 1058, 1059, 1046, 1042, 1068, 1067, 1047, 1064, 1069, 1065, 1063, 1066]
  | _ => [0, 1, 2, 3, 4, 5, 6, 7, 8, 9, 10, 11, 12, 13, 14, 15, 16, 17, 18, 19, 20, 21, 22, 23, 24, 25, 26, 27, 28, 29, 30, 31, 32, 33, 34, 35, 36, 37, 38, 39, 40, 41, 42, 43, 44, 45, 46, 47, 48, 49, 50, 51, 52, 53, 54, 55, 56, 57, 58, 59, 60, 61, 62, 63, 64, 65, 66, 67, 68, 69, 70, 71, 72, 73, 74, 75, 76, 77, 78, 79, 80, 81, 82, 83, 84, 85, 86, 87, 88, 89, 90, 91, 92, 93, 94, 95, 96, 97, 98, 99, 100, 101, 102, 103, 104, 105, 106, 107, 108, 109, 110, 111, 112, 113, 114, 115, 116, 117, 118, 119, 120, 121, 122, 123, 124, 125, 126, 127, 1040, 1041, 1042, 1043, 1044, 1045, 1046, 1047, 1048, 1049, 1050, 1051, 1052, 1053, 1054, 1055, 1056, 1057, 1058, 1059, 1060, 1061, 1062, 1063, 1064, 1065, 1066, 1067, 1068, 1069, 1070, 1071, 1072, 1073, 1074, 1075, 1076, 1077, 1078, 1079, 1080, 1081, 1082, 1083, 1084, 1085, 1086, 1087, 9617, 9618, 9619, 9474, 9508, 9569, 9570, 9558, 9557, 9571, 9553, 9559, 9565, 9564, 9563, 9488, 9492, 9524, 9516, 9500, 9472, 9532, 9566, 9567, 9562, 9556, 9577, 9574, 9568, 9552, 9580, 9575, 9576, 9572, 9573, 9561, 9560, 9554, 9555, 9579, 9578, 9496, 9484, 9608, 9604, 9612, 9616, 9600, 1088, 1089, 1090, 1091, 1092, 1093, 1094, 1095, 1096, 1097, 1098, 1099, 1100, 1101, 1102, 1103, 1025, 1105, 1028, 1108, 1031, 1111, 1038, 1118, 176, 8729, 183, 8730, 8470, 164, 9632, 160]
set_option maxRecDepth 100000 in
theorem tabZ_0 : (List.range 256).map (fun n => signZ 0 n) = tabZ 0 := by decide +kernel
set_option maxRecDepth 100000 in
theorem tabZ_1 : (List.range 256).map (fun n => signZ 1 n) = tabZ 1 := by decide +kernel
set_option maxRecDepth 100000 in
theorem tabZ_2 : (List.range 256).map (fun n => signZ 2 n) = tabZ 2 := by decide +kernel
set_option maxRecDepth 100000 in
theorem tabZ_3 : (List.range 256).map (fun n => signZ 3 n) = tabZ 3 := by decide +kernel
set_option maxRecDepth 100000 in
theorem nodup_0 : (tabZ 0).Nodup := by decide +kernel
set_option maxRecDepth 100000 in
theorem nodup_1 : (tabZ 1).Nodup := by decide +kernel
set_option maxRecDepth 100000 in
theorem nodup_2 : (tabZ 2).Nodup := by decide +kernel
set_option maxRecDepth 100000 in
theorem nodup_3 : (tabZ 3).Nodup := by decide +kernel
theorem tabZ_all (c : Int) (hc0 : 0 ≤ c) (hc3 : c ≤ 3) : ((List.range 256).map (fun n => signZ c n)).Nodup := by
  have h : c = 0 ∨ c = 1 ∨ c = 2 ∨ c = 3 := by omega
  rcases h with rfl | rfl | rfl | rfl
  · rw [tabZ_0]; exact nodup_0
  · rw [tabZ_1]; exact nodup_1
  · rw [tabZ_2]; exact nodup_2
  · rw [tabZ_3]; exact nodup_3
/-- No sign has two bytes. -/
theorem sign_inj (c : Int) (i j : Nat) (hc0 : 0 ≤ c) (hc3 : c ≤ 3) (hi : i < 256) (hj : j < 256) (h : signZ c i = signZ c j) : i = j := by
  have hn := tabZ_all c hc0 hc3
  have hp := List.pairwise_iff_getElem.1 hn
  rcases Nat.lt_trichotomy i j with hlt | e | hlt
  · exact absurd (by rw [List.getElem_map, List.getElem_map, List.getElem_range, List.getElem_range]; exact h) (hp i j (by simpa using hi) (by simpa using hj) hlt)
  · exact e
  · exact absurd (by rw [List.getElem_map, List.getElem_map, List.getElem_range, List.getElem_range]; exact h.symm) (hp j i (by simpa using hj) (by simpa using hi) hlt)
theorem byte_sign (c : Int) (n : Nat) (hc0 : 0 ≤ c) (hc3 : c ≤ 3) (hn : n < 256) : byteZ c (signZ c n) = n := by
  have := byteGo_at c (signZ c n) 256 0 n hn (fun i hi => by
    rw [Nat.zero_add]
    intro e
    have := sign_inj c i n hc0 hc3 (by omega) hn e
    omega) (by rw [Nat.zero_add])
  rw [Nat.zero_add] at this
  exact this
theorem byteGo_get (c p : Int) : ∀ (k n : Nat), 0 ≤ byteGo c p k n → signZ c (byteGo c p k n).toNat = p
  | 0, _, h => by simp [byteGo] at h
  | k + 1, n, h => by
    unfold byteGo at h ⊢
    split
    · rename_i e
      simpa using e
    · rename_i e
      rw [if_neg e] at h
      exact byteGo_get c p k (n + 1) h
theorem sign_byte (c p : Int) (h : 0 ≤ byteZ c p) : signZ c (byteZ c p).toNat = p := byteGo_get c p 256 0 h
/-- What is decoded is encoded as it was, and the other way. -/
theorem enc_dec (c : Int) (hc0 : 0 ≤ c) (hc3 : c ≤ 3) : ∀ l : List UInt8, encZ c (decZ c l) = l
  | [] => rfl
  | x :: l => by
    have ih := enc_dec c hc0 hc3 l
    unfold encZ decZ at ih ⊢
    rw [List.map_cons, List.map_cons, ih, byte_sign c x.toNat hc0 hc3 x.toNat_lt]
    simp
theorem badZ_dec (c : Int) (hc0 : 0 ≤ c) (hc3 : c ≤ 3) : ∀ (l : List UInt8) (a : Nat), badZ c a (decZ c l) = -1
  | [], _ => rfl
  | x :: l, a => by
    have e := byte_sign c x.toNat hc0 hc3 x.toNat_lt
    show badZ c a (signZ c x.toNat :: decZ c l) = -1
    unfold badZ
    rw [if_neg (by omega)]
    exact badZ_dec c hc0 hc3 l _
theorem dec_enc5 (c : Int) : ∀ (l : List Int) (a : Nat), badZ c a l < 0 → decZ c (encZ c l) = l
  | [], _, _ => rfl
  | p :: l, a, h => by
    unfold badZ at h
    split at h
    · omega
    · rename_i hn
      have ih := dec_enc5 c l _ h
      have hb := byteZ_bd c p
      unfold decZ encZ at ih ⊢
      rw [List.map_cons, List.map_cons, ih]
      have e : (byteZ c p).toNat.toUInt8.toNat = (byteZ c p).toNat := by
        simp
        omega
      rw [e, sign_byte c p (by omega)]
end Go.Proofs.YtabcneomeemnpaaDoor
