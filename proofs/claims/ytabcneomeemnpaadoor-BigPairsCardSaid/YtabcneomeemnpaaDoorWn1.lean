/-
  The rows, plainly: the signs of the rows that aren't syllables; second bytes; the sign of two bytes; the code of a sign in the rows.
-/
import Derived.Test.YtabcneomeemnpaaDoorWn0
namespace Go.Proofs.YtabcneomeemnpaaDoor
open Go Go.RowKit
set_option linter.unusedSimpArgs false
set_option linter.unusedVariables false

def rowL1 : List Int := [12288, 12289, 12290, 183, 8229, 8230, 168, 12291, 173, 8213, 8741, 65340, 8764, 8216, 8217, 8220, 8221, 12308, 12309, 12296, 12297, 12298, 12299, 12300, 12301, 12302, 12303, 12304, 12305, 177, 215, 247, 8800, 8804, 8805, 8734, 8756, 176, 8242, 8243, 8451, 8491, 65504, 65505, 65509, 9794, 9792, 8736, 8869, 8978, 8706, 8711, 8801, 8786, 167, 8251, 9734, 9733, 9675, 9679, 9678, 9671, 9670, 9633, 9632, 9651, 9650, 9661, 9660, 8594, 8592, 8593, 8595, 8596, 12307, 8810, 8811, 8730, 8765, 8733, 8757, 8747, 8748, 8712, 8715, 8838, 8839, 8834, 8835, 8746, 8745, 8743, 8744, 65506]
def rowL2 : List Int := [8658, 8660, 8704, 8707, 180, 65374, 711, 728, 733, 730, 729, 184, 731, 161, 191, 720, 8750, 8721, 8719, 164, 8457, 8240, 9665, 9664, 9655, 9654, 9828, 9824, 9825, 9829, 9831, 9827, 8857, 9672, 9635, 9680, 9681, 9618, 9636, 9637, 9640, 9639, 9638, 9641, 9832, 9743, 9742, 9756, 9758, 182, 8224, 8225, 8597, 8599, 8601, 8598, 8600, 9837, 9833, 9834, 9836, 12927, 12828, 8470, 13255, 8482, 13250, 13272, 8481, 8364, 174]
def rowL6 : List Int := [9472, 9474, 9484, 9488, 9496, 9492, 9500, 9516, 9508, 9524, 9532, 9473, 9475, 9487, 9491, 9499, 9495, 9507, 9523, 9515, 9531, 9547, 9504, 9519, 9512, 9527, 9535, 9501, 9520, 9509, 9528, 9538, 9490, 9489, 9498, 9497, 9494, 9493, 9486, 9485, 9502, 9503, 9505, 9506, 9510, 9511, 9513, 9514, 9517, 9518, 9521, 9522, 9525, 9526, 9529, 9530, 9533, 9534, 9536, 9537, 9539, 9540, 9541, 9542, 9543, 9544, 9545, 9546]
/-- A sign of a span; 0: it isn't there. -/
def spanZ (b f l p : Int) : Int := if b < f ∨ l < b then 0 else p + (b - f)
/-- The sign of two bytes in the rows, but for syllables; 0: there is none. -/
def rowZ (lead b : Nat) : Int :=
  if lead = 161 then rowL1.getD (b - 161) 0
  else if lead = 162 then (if b - 161 < 71 then rowL2.getD (b - 161) 0 else 0)
  else if lead = 163 then (if b = 220 then 65510 else if b = 254 then 65507 else 65281 + (b : Int) - 161)
  else if lead = 164 then 12593 + (b : Int) - 161
  else if lead = 165 then spanZ b 161 170 8560 + spanZ b 176 185 8544 + spanZ b 193 209 913 + spanZ b 210 216 931 + spanZ b 225 241 945 + spanZ b 242 248 963
  else if lead = 166 then (if b - 161 < 68 then rowL6.getD (b - 161) 0 else 0)
  else if lead = 170 then spanZ b 161 243 12353
  else if lead = 171 then spanZ b 161 246 12449
  else if lead = 172 then spanZ b 161 166 1040 + spanZ b 167 167 1025 + spanZ b 168 193 1046 + spanZ b 209 214 1072 + spanZ b 215 215 1105 + spanZ b 216 241 1078
  else 0
/-- All 1,128 of them, one row behind the other. -/
def rowsZ : List Int := [12288, 12289, 12290, 183, 8229, 8230, 168, 12291, 173, 8213, 8741, 65340, 8764, 8216, 8217, 8220, 8221, 12308, 12309, 12296, 12297, 12298, 12299, 12300, 12301, 12302, 12303, 12304, 12305, 177, 215, 247, 8800, 8804, 8805, 8734, 8756, 176, 8242, 8243, 8451, 8491, 65504, 65505, 65509, 9794, 9792, 8736, 8869, 8978, 8706, 8711, 8801, 8786, 167, 8251, 9734, 9733, 9675, 9679, 9678, 9671, 9670, 9633, 9632, 9651, 9650, 9661, 9660, 8594, 8592, 8593, 8595, 8596, 12307, 8810, 8811, 8730, 8765, 8733, 8757, 8747, 8748, 8712, 8715, 8838, 8839, 8834, 8835, 8746, 8745, 8743, 8744, 65506, 8658, 8660, 8704, 8707, 180, 65374, 711, 728, 733, 730, 729, 184, 731, 161, 191, 720, 8750, 8721, 8719, 164, 8457, 8240, 9665, 9664, 9655, 9654, 9828, 9824, 9825, 9829, 9831, 9827, 8857, 9672, 9635, 9680, 9681, 9618, 9636, 9637, 9640, 9639, 9638, 9641, 9832, 9743, 9742, 9756, 9758, 182, 8224, 8225, 8597, 8599, 8601, 8598, 8600, 9837, 9833, 9834, 9836, 12927, 12828, 8470, 13255, 8482, 13250, 13272, 8481, 8364, 174, 0, 0, 0, 0, 0, 0, 0, 0, 0, 0, 0, 0, 0, 0, 0, 0, 0, 0, 0, 0, 0, 0, 0, 65281, 65282, 65283, 65284, 65285, 65286, 65287, 65288, 65289, 65290, 65291, 65292, 65293, 65294, 65295, 65296, 65297, 65298, 65299, 65300, 65301, 65302, 65303, 65304, 65305, 65306, 65307, 65308, 65309, 65310, 65311, 65312, 65313, 65314, 65315, 65316, 65317, 65318, 65319, 65320, 65321, 65322, 65323, 65324, 65325, 65326, 65327, 65328, 65329, 65330, 65331, 65332, 65333, 65334, 65335, 65336, 65337, 65338, 65339, 65510, 65341, 65342, 65343, 65344, 65345, 65346, 65347, 65348, 65349, 65350, 65351, 65352, 65353, 65354, 65355, 65356, 65357, 65358, 65359, 65360, 65361, 65362, 65363, 65364, 65365, 65366, 65367, 65368, 65369, 65370, 65371, 65372, 65373, 65507, 12593, 12594, 12595, 12596, 12597, 12598, 12599, 12600, 12601, 12602, 12603, 12604, 12605, 12606, 12607, 12608, 12609, 12610, 12611, 12612, 12613, 12614, 12615, 12616, 12617, 12618, 12619, 12620, 12621, 12622, 12623, 12624, 12625, 12626, 12627, 12628, 12629, 12630, 12631, 12632, 12633, 12634, 12635, 12636, 12637, 12638, 12639, 12640, 12641, 12642, 12643, 12644, 12645, 12646, 12647, 12648, 12649, 12650, 12651, 12652, 12653, 12654, 12655, 12656, 12657, 12658, 12659, 12660, 12661, 12662, 12663, 12664, 12665, 12666, 12667, 12668, 12669, 12670, 12671, 12672, 12673, 12674, 12675, 12676, 12677, 12678, 12679, 12680, 12681, 12682, 12683, 12684, 12685, 12686, 8560, 8561, 8562, 8563, 8564, 8565, 8566, 8567, 8568, 8569, 0, 0, 0, 0, 0, 8544, 8545, 8546, 8547, 8548, 8549, 8550, 8551, 8552, 8553, 0, 0, 0, 0, 0, 0, 0, 913, 914, 915, 916, 917, 918, 919, 920, 921, 922, 923, 924, 925, 926, 927, 928, 929, 931, 932, 933, 934, 935, 936, 937, 0, 0, 0, 0, 0, 0, 0, 0, 945, 946, 947, 948, 949, 950, 951, 952, 953, 954, 955, 956, 957, 958, 959, 960, 961, 963, 964, 965, 966, 967, 968, 969, 0, 0, 0, 0, 0, 0, 9472, 9474, 9484, 9488, 9496, 9492, 9500, 9516, 9508, 9524, 9532, 9473, 9475, 9487, 9491, 9499, 9495, 9507, 9523, 9515, 9531, 9547, 9504, 9519, 9512, 9527, 9535, 9501, 9520, 9509, 9528, 9538, 9490, 9489, 9498, 9497, 9494, 9493, 9486, 9485, 9502, 9503, 9505, 9506, 9510, 9511, 9513, 9514, 9517, 9518, 9521, 9522, 9525, 9526, 9529, 9530, 9533, 9534, 9536, 9537, 9539, 9540, 9541, 9542, 9543, 9544, 9545, 9546, 0, 0, 0, 0, 0, 0, 0, 0, 0, 0, 0, 0, 0, 0, 0, 0, 0, 0, 0, 0, 0, 0, 0, 0, 0, 0, 0, 0, 0, 0, 0, 0, 0, 0, 0, 0, 0, 0, 0, 0, 0, 0, 0, 0, 0, 0, 0, 0, 0, 0, 0, 0, 0, 0, 0, 0, 0, 0, 0, 0, 0, 0, 0, 0, 0, 0, 0, 0, 0, 0, 0, 0, 0, 0, 0, 0, 0, 0, 0, 0, 0, 0, 0, 0, 0, 0, 0, 0, 0, 0, 0, 0, 0, 0, 0, 0, 0, 0, 0, 0, 0, 0, 0, 0, 0, 0, 0, 0, 0, 0, 0, 0, 0, 0, 0, 0, 0, 0, 0, 0, 0, 0, 0, 0, 0, 0, 0, 0, 0, 0, 0, 0, 0, 0, 0, 0, 0, 0, 0, 0, 0, 0, 0, 0, 0, 0, 0, 0, 0, 0, 0, 0, 0, 0, 0, 0, 0, 0, 0, 0, 0, 0, 0, 0, 0, 0, 0, 0, 0, 0, 0, 0, 0, 0, 0, 0, 0, 0, 0, 0, 0, 0, 0, 0, 0, 0, 0, 0, 0, 0, 0, 0, 0, 0, 0, 0, 0, 0, 0, 0, 0, 0, 0, 0, 0, 0, 0, 0, 0, 0, 0, 0, 0, 0, 0, 0, 0, 0, 0, 0, 0, 0, 0, 0, 0, 0, 0, 0, 0, 0, 0, 0, 0, 0, 0, 0, 0, 0, 0, 0, 0, 0, 0, 0, 0, 0, 0, 0, 0, 0, 0, 0, 0, 0, 0, 0, 0, 0, 0, 0, 0, 0, 0, 0, 0, 0, 0, 0, 0, 0, 0, 0, 0, 0, 0, 0, 0, 0, 0, 0, 0, 0, 0, 0, 0, 0, 0, 0, 0, 0, 0, 0, 0, 0, 0, 0, 0, 0, 0, 0, 0, 0, 0, 0, 0, 0, 0, 0, 12353, 12354, 12355, 12356, 12357, 12358, 12359, 12360, 12361, 12362, 12363, 12364, 12365, 12366, 12367, 12368, 12369, 12370, 12371, 12372, 12373, 12374, 12375, 12376, 12377, 12378, 12379, 12380, 12381, 12382, 12383, 12384, 12385, 12386, 12387, 12388, 12389, 12390, 12391, 12392, 12393, 12394, 12395, 12396, 12397, 12398, 12399, 12400, 12401, 12402, 12403, 12404, 12405, 12406, 12407, 12408, 12409, 12410, 12411, 12412, 12413, 12414, 12415, 12416, 12417, 12418, 12419, 12420, 12421, 12422, 12423, 12424, 12425, 12426, 12427, 12428, 12429, 12430, 12431, 12432, 12433, 12434, 12435, 0, 0, 0, 0, 0, 0, 0, 0, 0, 0, 0, 12449, 12450, 12451, 12452, 12453, 12454, 12455, 12456, 12457, 12458, 12459, 12460, 12461, 12462, 12463, 12464, 12465, 12466, 12467, 12468, 12469, 12470, 12471, 12472, 12473, 12474, 12475, 12476, 12477, 12478, 12479, 12480, 12481, 12482, 12483, 12484, 12485, 12486, 12487, 12488, 12489, 12490, 12491, 12492, 12493, 12494, 12495, 12496, 12497, 12498, 12499, 12500, 12501, 12502, 12503, 12504, 12505, 12506, 12507, 12508, 12509, 12510, 12511, 12512, 12513, 12514, 12515, 12516, 12517, 12518, 12519, 12520, 12521, 12522, 12523, 12524, 12525, 12526, 12527, 12528, 12529, 12530, 12531, 12532, 12533, 12534, 0, 0, 0, 0, 0, 0, 0, 0, 1040, 1041, 1042, 1043, 1044, 1045, 1025, 1046, 1047, 1048, 1049, 1050, 1051, 1052, 1053, 1054, 1055, 1056, 1057, 1058, 1059, 1060, 1061, 1062, 1063, 1064, 1065, 1066, 1067, 1068, 1069, 1070, 1071, 0, 0, 0, 0, 0, 0, 0, 0, 0, 0, 0, 0, 0, 0, 0, 1072, 1073, 1074, 1075, 1076, 1077, 1105, 1078, 1079, 1080, 1081, 1082, 1083, 1084, 1085, 1086, 1087, 1088, 1089, 1090, 1091, 1092, 1093, 1094, 1095, 1096, 1097, 1098, 1099, 1100, 1101, 1102, 1103, 0, 0, 0, 0, 0, 0, 0, 0, 0, 0, 0, 0, 0]
def atZ (i : Nat) : Int := rowZ (161 + i / 94) (161 + i % 94)
set_option maxRecDepth 100000 in
theorem rowsZ_eq : (List.range 1128).map atZ = rowsZ := by decide +kernel
/-- Is no number of a list there twice? (The bits of m tell which were.) -/
def dupGo : Nat → List Nat → Bool
  | _, [] => true
  | m, x :: l => !(m.testBit x) && dupGo (m ||| 2 ^ x) l
theorem dupGo_ok : ∀ (l : List Nat) (m : Nat), dupGo m l = true → l.Nodup ∧ ∀ x ∈ l, m.testBit x = false
  | [], _, _ => ⟨List.nodup_nil, fun x h => by simp at h⟩
  | x :: l, m, h => by
    unfold dupGo at h
    simp only [Bool.and_eq_true, Bool.not_eq_true'] at h
    obtain ⟨h1, h2⟩ := h
    obtain ⟨h3, h4⟩ := dupGo_ok l _ h2
    have h5 : ∀ y ∈ l, m.testBit y = false ∧ y ≠ x := fun y hy => by
      have := h4 y hy
      rw [Nat.testBit_or, Bool.or_eq_false_iff, Nat.testBit_two_pow] at this
      exact ⟨this.1, fun e => by subst e; simp at this⟩
    refine ⟨List.nodup_cons.2 ⟨fun hx => (h5 x hx).2 rfl, h3⟩, fun y hy => ?_⟩
    rcases List.mem_cons.1 hy with rfl | hy
    · exact h1
    · exact (h5 y hy).1
set_option maxRecDepth 100000 in
theorem rowsZ_dup : dupGo 0 ((rowsZ.filter fun z => z != 0).map Int.toNat) = true := by decide +kernel
theorem rowsZ_nodup : (rowsZ.filter fun z => z != 0).Nodup := List.Pairwise.imp (fun h e => h (by rw [e])) (List.pairwise_map.1 (dupGo_ok _ _ rowsZ_dup).1)
set_option maxRecDepth 100000 in
theorem rowsZ_many : (rowsZ.filter fun z => z != 0).length = 724 := by decide +kernel
set_option maxRecDepth 100000 in
theorem rowsZ_bd : rowsZ.all (fun z => decide (0 ≤ z) && decide (z ≤ 65535) && !(decide (44032 ≤ z) && decide (z ≤ 55203)) && !(decide (55296 ≤ z) && decide (z ≤ 57343))) = true := by decide +kernel
theorem rowsZ_at (i : Nat) (h : i < 1128) : rowsZ[i]? = some (atZ i) := by
  rw [← rowsZ_eq, List.getElem?_map, List.getElem?_range h]
  rfl
theorem atZ_bd (i : Nat) (h : i < 1128) : 0 ≤ atZ i ∧ atZ i ≤ 65535 ∧ ¬ (44032 ≤ atZ i ∧ atZ i ≤ 55203) := by
  have h1 := List.all_eq_true.1 rowsZ_bd _ (List.mem_of_getElem? (rowsZ_at i h))
  simp only [Bool.and_eq_true, Bool.not_eq_true', decide_eq_true_eq] at h1
  obtain ⟨⟨⟨h2, h3⟩, h4⟩, _⟩ := h1
  refine ⟨h2, h3, fun k => ?_⟩
  rw [decide_eq_true k.1, decide_eq_true k.2] at h4
  cases h4
theorem nodup_filter {l : List Int} {p : Int → Bool} (hn : (l.filter p).Nodup) : ∀ {i j : Nat} {z : Int}, l[i]? = some z → l[j]? = some z → p z = true → i = j := by
  induction l with
  | nil => intro i j z h; simp at h
  | cons x l ih =>
    intro i j z hi hj hz
    have hl : (l.filter p).Nodup := by
      by_cases hx : p x = true
      · rw [List.filter_cons_of_pos hx, List.nodup_cons] at hn
        exact hn.2
      · rwa [List.filter_cons_of_neg hx] at hn
    have hx : ∀ k : Nat, l[k]? = some x → p x = true → False := fun k hk hx => by
      rw [List.filter_cons_of_pos hx, List.nodup_cons] at hn
      exact hn.1 (List.mem_filter.2 ⟨List.mem_of_getElem? hk, hx⟩)
    match i, j, hi, hj with
    | 0, 0, _, _ => rfl
    | 0, j + 1, hi, hj =>
      simp at hi
      subst hi
      exact (hx j (by simpa using hj) hz).elim
    | i + 1, 0, hi, hj =>
      simp at hj
      subst hj
      exact (hx i (by simpa using hi) hz).elim
    | i + 1, j + 1, hi, hj =>
      have := ih hl (i := i) (j := j) (by simpa using hi) (by simpa using hj) hz
      omega
/-- No two places of the rows have one sign. -/
theorem atZ_inj {i j : Nat} (hi : i < 1128) (hj : j < 1128) (h : atZ i = atZ j) (hz : atZ i ≠ 0) : i = j :=
  nodup_filter rowsZ_nodup (rowsZ_at i hi) (by rw [h]; exact rowsZ_at j hj) (by simpa using hz)
/-- The number of a second byte; -1: it is none. -/
def secZ (b : Int) : Int := if 65 ≤ b ∧ b ≤ 90 then b - 65 else if 97 ≤ b ∧ b ≤ 122 then b - 97 + 26 else if 129 ≤ b ∧ b ≤ 254 then b - 129 + 52 else -1
/-- The k-th syllable in the rows, or not; 0: there is none. -/
def kthZ (b : Bool) (k : Int) : Int := if k < 0 then 0 else match kthM b k.toNat with | some i => 44032 + (i : Int) | none => 0
/-- The sign of two bytes; 0: there is none. -/
def signW (lead b : Nat) : Int :=
  if secZ b < 0 ∨ lead < 129 ∨ 254 < lead then 0
  else if lead < 161 then kthZ false (((lead : Int) - 129) * 178 + secZ b)
  else if b < 161 then kthZ false (5696 + ((lead : Int) - 161) * 84 + secZ b)
  else if 176 ≤ lead ∧ lead ≤ 200 then kthZ true (((lead : Int) - 176) * 94 + b - 161)
  else rowZ lead b
/-- The first place of the rows, from one on, of so many, that has a sign; -1: none has. -/
def rowGo (p : Int) : Nat → Nat → Int
  | 0, _ => -1
  | k + 1, i => if atZ i = p then ((161 + i / 94) * 256 + (161 + i % 94) : Nat) else rowGo p k (i + 1)
def rowCodeZ (p : Int) : Int := rowGo p 1128 0
end Go.Proofs.YtabcneomeemnpaaDoor
