/-
  Layer 8, plainly: the pieces of the landed code; the sign of a code by them.
-/
import Derived.Test.YtabcneomeemnpaaDoorBg7
import Derived.Test.YtabcneomeemnpaaDoorRnA
namespace Go.Proofs.YtabcneomeemnpaaDoor
open Go Go.RowKit
set_option linter.unusedSimpArgs false
set_option linter.unusedVariables false

/-- The pieces: the first code, the signs. -/
def bgL : List (Nat × List Int) := [(34902, [256, 193, 461, 192, 274, 201, 282, 200, 332, 211, 465, 210]), (34915, [7870]), (34917, [7872, 202, 257, 225, 462, 224, 593, 275, 233, 283, 232, 299, 237, 464, 236, 333, 243, 466, 242, 363, 250, 468, 249, 470, 472, 474]), (34977, [476, 252]), (34980, [7871]), (34982, [7873, 234, 609]), (41280, [12288, 65292, 12289, 12290, 65294, 8226, 65307, 65306, 65311, 65281, 65072, 8230, 8229, 65104, 65380, 65106, 183, 65108, 65109, 65110, 65111, 65372, 8211, 65073, 8212, 65075, 9588, 65076, 65103, 65288, 65289, 65077, 65078, 65371, 65373, 65079, 65080, 12308, 12309, 65081, 65082, 12304, 12305, 65083, 65084, 12298, 12299, 65085, 65086, 12296, 12297, 65087, 65088, 12300, 12301, 65089, 65090, 12302, 12303, 65091, 65092, 65113, 65114]), (41377, [65115, 65116, 65117, 65118, 8216, 8217, 8220, 8221, 12317, 12318, 8245, 8242, 65283, 65286, 65290, 8251, 167, 12291, 9675, 9679, 9651, 9650, 9678, 9734, 9733, 9671, 9670, 9633, 9632, 9661, 9660, 12963, 8453, 8254, 65507, 65343, 717, 65097, 65098, 65101, 65102, 65099, 65100, 65119, 65120, 65121, 65291, 65293, 215, 247, 177, 8730, 65308, 65310, 65309, 8806, 8807, 8800, 8734, 8786, 8801, 65122, 65123, 65124, 65125, 65126, 8764, 8745, 8746, 8869, 8736, 8735, 8895, 13266, 13265, 8747, 8750, 8757, 8756, 9792, 9794, 9793, 9737, 8593, 8595, 8592, 8594, 8598, 8599, 8601, 8600, 8741, 8739, 65295]), (41792, [65367, 65368, 65369, 65370, 913, 914, 915, 916, 917, 918, 919, 920, 921, 922, 923, 924, 925, 926, 927, 928, 929, 931, 932, 933, 934, 935, 936, 937, 945, 946, 947, 948, 949, 950, 951, 952, 953, 954, 955, 956, 957, 958, 959, 960, 961, 963, 964, 965, 966, 967, 968, 969, 12549, 12550, 12551, 12552, 12553, 12554, 12555, 12556, 12557, 12558, 12559]), (41889, [12560, 12561, 12562, 12563, 12564, 12565, 12566, 12567, 12568, 12569, 12570, 12571, 12572, 12573, 12574, 12575, 12576, 12577, 12578, 12579, 12580, 12581, 12582, 12583, 12584, 12585, 729, 713, 714, 711, 715]), (42048, [19968, 20057, 19969, 19971, 20035, 20061, 20102, 20108, 20154, 20799, 20837, 20843, 20960, 20992, 20993, 21147, 21269, 21313, 21340, 21448, 19977, 19979, 19976, 19978, 20011, 20024, 20961, 20037, 20040, 20063, 20062, 20110, 20129, 20800, 20995, 21242, 21315, 21449, 21475, 22303, 22763, 22805, 22823, 22899, 23376, 23377, 23379, 23544, 23567, 23586, 23608, 23665, 24029, 24037, 24049, 24050, 24051, 24062, 24178, 24318, 24331, 24339, 25165]), (42145, [19985, 19984, 19981, 20013, 20016, 20025, 20043, 23609, 20104, 20113, 20117, 20114, 20116, 20130, 20161, 20160, 20163, 20166, 20167, 20173, 20170, 20171, 20164, 20803, 20801, 20839, 20845, 20846, 20844, 20887, 20982, 20998, 20999, 21000, 21243, 21246, 21247, 21270, 21305, 21320, 21319, 21317, 21342, 21380, 21451, 21450, 21453, 22764, 22825, 22827, 22826, 22829, 23380, 23569, 23588, 23610, 23663, 24052, 24187, 24319, 24340, 24341, 24515, 25096, 25142, 25163, 25166, 25903, 25991, 26007, 26020, 26041, 26085, 26352, 26376, 26408, 27424, 27490, 27513, 27595, 27604, 27611, 27663, 27700, 28779, 29226, 29238, 29243, 29255, 29273, 29275, 29356, 29579, 19993]), (42304, [19990, 19989, 19988, 19992, 20027, 20045, 20047, 20046, 20197, 20184, 20180, 20181, 20182, 20183, 20195, 20196, 20185, 20190, 20805, 20804, 20873, 20874, 20908, 20985, 20986, 20984, 21002, 21152, 21151, 21253, 21254, 21271, 21277, 20191, 21322, 21321, 21345, 21344, 21359, 21358, 21435, 21487, 21476, 21491, 21484, 21486, 21481, 21480, 21500, 21496, 21493, 21483, 21478, 21482, 21490, 21489, 21488, 21477, 21485, 21499, 22235, 22234, 22806]), (42401, [22830, 22833, 22900, 22902, 23381, 23427, 23612, 24040, 24039, 24038, 24066, 24067, 24179, 24188, 24321, 24344, 24343, 24517, 25098, 25171, 25172, 25170, 25169, 26021, 26086, 26414, 26412, 26410, 26411, 26413, 27491, 27597, 27665, 27664, 27704, 27713, 27712, 27710, 29359, 29572, 29577, 29916, 29926, 29976, 29983, 29992, 29993, 30000, 30001, 30002, 30003, 30091, 30333, 30382, 30399, 30446, 30683, 30690, 30707, 31034, 31166, 31348, 31435, 19998, 19999, 20050, 20051, 20073, 20121, 20132, 20134, 20133, 20223, 20233, 20249, 20234, 20245, 20237, 20240, 20241, 20239, 20210, 20214, 20219, 20208, 20211, 20221, 20225, 20235, 20809, 20807, 20806, 20808, 20840])]
def bgF (i : Nat) : Nat := (bgL.getD i (0, [])).1
def bgS (i : Nat) : List Int := (bgL.getD i (0, [])).2
def bgV : List Pv := bgL.map fun p => ⟨(p.1 : Int), 0, 0, txt p.2⟩
set_option maxRecDepth 1000000 in
theorem bg_made : madeP bgV = (bigPairs, -1) := by decide +kernel
/-- The last piece, from one on, so many, that begins at a code or ahead of it; else one that was so. -/
def lastGo (c : Int) : Nat → Nat → Nat × List Int → Nat × List Int
  | 0, _, q => q
  | k + 1, i, q => lastGo c k (i + 1) (if (bgF i : Int) ≤ c then (bgF i, bgS i) else q)
/-- A sign by its number. -/
def nthS (zs : List Int) (n : Int) : Int := if 0 ≤ n then zs.getD n.toNat 0 else 0
/-- The sign of a code, as the code looks for it; 0: there is none. -/
def soB (c : Int) : Int := nthS (lastGo c 14 0 (0, [])).2 (c - (lastGo c 14 0 (0, [])).1)
theorem lastGo_in (c : Int) : ∀ (k i : Nat) (q : Nat × List Int), lastGo c k i q = q ∨ ∃ j, i ≤ j ∧ j < i + k ∧ (bgF j : Int) ≤ c ∧ lastGo c k i q = (bgF j, bgS j)
  | 0, i, q => .inl rfl
  | k + 1, i, q => by
    unfold lastGo
    by_cases h : (bgF i : Int) ≤ c
    · rw [if_pos h]
      rcases lastGo_in c k (i + 1) (bgF i, bgS i) with e | ⟨j, h1, h2, h3, e⟩
      · exact .inr ⟨i, by omega, by omega, h, e⟩
      · exact .inr ⟨j, by omega, by omega, h3, e⟩
    · rw [if_neg h]
      rcases lastGo_in c k (i + 1) q with e | ⟨j, h1, h2, h3, e⟩
      · exact .inl e
      · exact .inr ⟨j, by omega, by omega, h3, e⟩
set_option maxRecDepth 1000000 in
theorem soB_cells : (List.range 785).all (fun i => cellAt i == 0 || soB ((codeB i : Nat) : Int) == cellAt i) = true := by decide +kernel
set_option maxRecDepth 1000000 in
theorem soB_back : (List.range 14).all (fun i => (List.range (bgS i).length).all fun n => oneB ((bgF i + n) / 256) (((bgF i + n) % 256 : Nat) : Int) != 0) = true := by decide +kernel
theorem soB_one (a b : Nat) (hb : b < 256) : soB ((a * 256 + b : Nat) : Int) = oneB a b := by
  by_cases h : oneB a b = 0
  · rw [h]
    unfold soB
    rcases lastGo_in ((a * 256 + b : Nat) : Int) 14 0 (0, []) with e | ⟨j, h1, h2, h3, e⟩
    · rw [e]
      unfold nthS
      split <;> rfl
    · rw [e]
      unfold nthS
      rw [if_pos (show 0 ≤ ((a * 256 + b : Nat) : Int) - (bgF j : Int) by omega)]
      obtain ⟨n, hn⟩ : ∃ n, n = (((a * 256 + b : Nat) : Int) - (bgF j : Int)).toNat := ⟨_, rfl⟩
      rw [← hn]
      by_cases hl : n < (bgS j).length
      · exfalso
        have h4 := List.all_eq_true.1 soB_back j (List.mem_range.2 (by omega))
        have h5 := List.all_eq_true.1 h4 n (List.mem_range.2 hl)
        rw [show bgF j + n = a * 256 + b from by omega, show (a * 256 + b) / 256 = a from by omega, show (a * 256 + b) % 256 = b from by omega, h] at h5
        cases h5
      · rw [List.getD_eq_getElem?_getD, List.getElem?_eq_none (by show (bgS j).length ≤ n; omega)]
        rfl
  · obtain ⟨i, h1, h2, h3⟩ := (bigPairs_mem _).1 (bigPairs_one a b h)
    have h4 := List.all_eq_true.1 soB_cells i (List.mem_range.2 h1)
    have h5 := congrArg Prod.fst h3
    have h6 := congrArg Prod.snd h3
    simp only at h5 h6
    rw [← h5, ← h6] at h4
    rcases Bool.or_eq_true_iff.1 h4 with h7 | h7
    · exact absurd (eq_of_beq h7) h
    · exact eq_of_beq h7
set_option maxRecDepth 100000 in
theorem bgS_ok (i : Nat) : allSigns (bgS i) = true ∧ (bgS i).length ≤ 100 ∧ (bgS i).all (fun z => decide (z ≠ 0)) = true := by
  by_cases h : i < 14
  · have hk : (List.range 14).all (fun i => allSigns (bgS i) && decide ((bgS i).length ≤ 100) && (bgS i).all (fun z => decide (z ≠ 0))) = true := by decide +kernel
    have h1 := List.all_eq_true.1 hk i (List.mem_range.2 h)
    simp only [Bool.and_eq_true, decide_eq_true_eq] at h1
    exact ⟨h1.1.1, h1.1.2, by simpa using h1.2⟩
  · have e : bgS i = [] := by
      unfold bgS
      rw [List.getD_eq_getElem?_getD, List.getElem?_eq_none (by show 14 ≤ i; omega)]
      rfl
    rw [e]
    exact ⟨rfl, by decide, rfl⟩
theorem bgF_bd (i : Nat) : bgF i ≤ 42401 := by
  by_cases h : i < 14
  · have hk : (List.range 14).all (fun i => decide (bgF i ≤ 42401)) = true := by decide +kernel
    have h1 := List.all_eq_true.1 hk i (List.mem_range.2 h)
    simpa using h1
  · unfold bgF
    rw [List.getD_eq_getElem?_getD, List.getElem?_eq_none (by show 14 ≤ i; omega)]
    decide

end Go.Proofs.YtabcneomeemnpaaDoor
