/- Layer 8 (big5), plainly: the rows, one sign and two; there and back. -/
import Derived.Test.YtiigknimfibdpaaGreatDoorZ0
namespace Go.Proofs.YtiigknimfibdpaaGreatDoor.bg
open Go.Proofs.YtiigknimfibdpaaGreatDoor.wa (chk chk_apart)
set_option linter.unusedVariables false
/-- The rows, from the first cell on (63: no sign). -/
def l88 : List Nat := [63, 63, 63, 63, 63, 63, 63, 63, 63, 63, 63, 63, 63, 63, 63, 63, 63, 63, 63, 63, 63, 63, 256, 193, 461, 192, 274, 201, 282, 200, 332, 211, 465, 210, 63, 7870, 63, 7872, 202, 257, 225, 462, 224, 593, 275, 233, 283, 232, 299, 237, 464, 236, 333, 243, 466, 242, 363, 250, 468, 249, 470, 472, 474, 476, 252, 63, 7871, 63, 7873, 234, 609]
def lA1 : List Nat := [12288, 65292, 12289, 12290, 65294, 8226, 65307, 65306, 65311, 65281, 65072, 8230, 8229, 65104, 65380, 65106, 183, 65108, 65109, 65110, 65111, 65372, 8211, 65073, 8212, 65075, 9588, 65076, 65103, 65288, 65289, 65077, 65078, 65371, 65373, 65079, 65080, 12308, 12309, 65081, 65082, 12304, 12305, 65083, 65084, 12298, 12299, 65085, 65086, 12296, 12297, 65087, 65088, 12300, 12301, 65089, 65090, 12302, 12303, 65091, 65092, 65113, 65114, 65115, 65116, 65117, 65118, 8216, 8217, 8220, 8221, 12317, 12318, 8245, 8242, 65283, 65286, 65290, 8251, 167, 12291, 9675, 9679, 9651, 9650, 9678, 9734, 9733, 9671, 9670, 9633, 9632, 9661, 9660, 12963, 8453, 8254, 65507, 65343, 717, 65097, 65098, 65101, 65102, 65099, 65100, 65119, 65120, 65121, 65291, 65293, 215, 247, 177, 8730, 65308, 65310, 65309, 8806, 8807, 8800, 8734, 8786, 8801, 65122, 65123, 65124, 65125, 65126, 8764, 8745, 8746, 8869, 8736, 8735, 8895, 13266, 13265, 8747, 8750, 8757, 8756, 9792, 9794, 9793, 9737, 8593, 8595, 8592, 8594, 8598, 8599, 8601, 8600, 8741, 8739, 65295]
def lA3 : List Nat := [65367, 65368, 65369, 65370, 913, 914, 915, 916, 917, 918, 919, 920, 921, 922, 923, 924, 925, 926, 927, 928, 929, 931, 932, 933, 934, 935, 936, 937, 945, 946, 947, 948, 949, 950, 951, 952, 953, 954, 955, 956, 957, 958, 959, 960, 961, 963, 964, 965, 966, 967, 968, 969, 12549, 12550, 12551, 12552, 12553, 12554, 12555, 12556, 12557, 12558, 12559, 12560, 12561, 12562, 12563, 12564, 12565, 12566, 12567, 12568, 12569, 12570, 12571, 12572, 12573, 12574, 12575, 12576, 12577, 12578, 12579, 12580, 12581, 12582, 12583, 12584, 12585, 729, 713, 714, 711, 715]
def lA4 : List Nat := [19968, 20057, 19969, 19971, 20035, 20061, 20102, 20108, 20154, 20799, 20837, 20843, 20960, 20992, 20993, 21147, 21269, 21313, 21340, 21448, 19977, 19979, 19976, 19978, 20011, 20024, 20961, 20037, 20040, 20063, 20062, 20110, 20129, 20800, 20995, 21242, 21315, 21449, 21475, 22303, 22763, 22805, 22823, 22899, 23376, 23377, 23379, 23544, 23567, 23586, 23608, 23665, 24029, 24037, 24049, 24050, 24051, 24062, 24178, 24318, 24331, 24339, 25165, 19985, 19984, 19981, 20013, 20016, 20025, 20043, 23609, 20104, 20113, 20117, 20114, 20116, 20130, 20161, 20160, 20163, 20166, 20167, 20173, 20170, 20171, 20164, 20803, 20801, 20839, 20845, 20846, 20844, 20887, 20982, 20998, 20999, 21000, 21243, 21246, 21247, 21270, 21305, 21320, 21319, 21317, 21342, 21380, 21451, 21450, 21453, 22764, 22825, 22827, 22826, 22829, 23380, 23569, 23588, 23610, 23663, 24052, 24187, 24319, 24340, 24341, 24515, 25096, 25142, 25163, 25166, 25903, 25991, 26007, 26020, 26041, 26085, 26352, 26376, 26408, 27424, 27490, 27513, 27595, 27604, 27611, 27663, 27700, 28779, 29226, 29238, 29243, 29255, 29273, 29275, 29356, 29579, 19993]
def lA5 : List Nat := [19990, 19989, 19988, 19992, 20027, 20045, 20047, 20046, 20197, 20184, 20180, 20181, 20182, 20183, 20195, 20196, 20185, 20190, 20805, 20804, 20873, 20874, 20908, 20985, 20986, 20984, 21002, 21152, 21151, 21253, 21254, 21271, 21277, 20191, 21322, 21321, 21345, 21344, 21359, 21358, 21435, 21487, 21476, 21491, 21484, 21486, 21481, 21480, 21500, 21496, 21493, 21483, 21478, 21482, 21490, 21489, 21488, 21477, 21485, 21499, 22235, 22234, 22806, 22830, 22833, 22900, 22902, 23381, 23427, 23612, 24040, 24039, 24038, 24066, 24067, 24179, 24188, 24321, 24344, 24343, 24517, 25098, 25171, 25172, 25170, 25169, 26021, 26086, 26414, 26412, 26410, 26411, 26413, 27491, 27597, 27665, 27664, 27704, 27713, 27712, 27710, 29359, 29572, 29577, 29916, 29926, 29976, 29983, 29992, 29993, 30000, 30001, 30002, 30003, 30091, 30333, 30382, 30399, 30446, 30683, 30690, 30707, 31034, 31166, 31348, 31435, 19998, 19999, 20050, 20051, 20073, 20121, 20132, 20134, 20133, 20223, 20233, 20249, 20234, 20245, 20237, 20240, 20241, 20239, 20210, 20214, 20219, 20208, 20211, 20221, 20225, 20235, 20809, 20807, 20806, 20808, 20840]
def rowL (l : Nat) : List Nat := if l = 136 then l88 else if l = 161 then lA1 else if l = 163 then lA3 else if l = 164 then lA4 else if l = 165 then lA5 else []
def cell (b : Nat) : Option Nat := if 64 ≤ b ∧ b ≤ 126 then some (b - 64) else if 161 ≤ b ∧ b ≤ 254 then some (b - 98) else none
def cellB (c : Nat) : Nat := if c < 63 then c + 64 else c + 98
theorem cell_back {b c : Nat} (h : cell b = some c) : cellB c = b ∧ c < 157 := by
  unfold cell at h
  unfold cellB
  by_cases h1 : 64 ≤ b ∧ b ≤ 126
  · rw [if_pos h1] at h; injection h with h; subst h
    rw [if_pos (by omega)]; omega
  rw [if_neg h1] at h
  by_cases h2 : 161 ≤ b ∧ b ≤ 254
  · rw [if_pos h2] at h; injection h with h; subst h
    rw [if_neg (by omega)]; omega
  · rw [if_neg h2] at h; cases h
/-- A cell's sign; 0: there is none. -/
def sgC (l c : Nat) : Nat := if (rowL l).getD c 0 = 63 then 0 else (rowL l).getD c 0
def one (l b : Nat) : Nat := match cell b with
  | none => 0
  | some c => sgC l c
def ldL : List Nat := [136, 161, 163, 164, 165]
def ldx (i : Nat) : Nat := ldL.getD i 0
/-- By their places: 157 in each of five rows. -/
def oneJ (j : Nat) : Nat := sgC (ldx (j / 157)) (j % 157)
def oneL : List Nat := (List.range 785).map oneJ
theorem one_rng : oneL.all (fun p => decide (p = 0 ∨ (128 ≤ p ∧ p < 55296) ∨ (57343 < p ∧ p < 65536))) = true := by decide +kernel
theorem oneL_at {j : Nat} (h : j < 785) : oneL[j]? = some (oneJ j) := by unfold oneL; rw [List.getElem?_map, List.getElem?_range h]; rfl
theorem oneJ_rng {j : Nat} (h : j < 785) : oneJ j = 0 ∨ (128 ≤ oneJ j ∧ oneJ j < 55296) ∨ (57343 < oneJ j ∧ oneJ j < 65536) := by
  have := List.all_eq_true.1 one_rng (oneJ j) (List.mem_of_getElem? (oneL_at h))
  simpa using this
theorem sgC_none {l : Nat} (h : ¬ (l = 136 ∨ l = 161 ∨ l = 163 ∨ l = 164 ∨ l = 165)) (c : Nat) : sgC l c = 0 := by
  have e : rowL l = [] := by unfold rowL; rw [if_neg (by omega), if_neg (by omega), if_neg (by omega), if_neg (by omega), if_neg (by omega)]
  unfold sgC
  rw [e]; rfl
/-- A row's number. -/
def ldi (l : Nat) : Nat := if l = 136 then 0 else if l = 161 then 1 else if l = 163 then 2 else if l = 164 then 3 else 4
theorem ldi_is {l : Nat} (h : l = 136 ∨ l = 161 ∨ l = 163 ∨ l = 164 ∨ l = 165) : ldx (ldi l) = l ∧ ldi l < 5 := by
  rcases h with rfl | rfl | rfl | rfl | rfl <;> decide
theorem one_J {l b c : Nat} (h : l = 136 ∨ l = 161 ∨ l = 163 ∨ l = 164 ∨ l = 165) (hc : cell b = some c) : one l b = oneJ (ldi l * 157 + c) ∧ ldi l * 157 + c < 785 := by
  obtain ⟨h1, h2⟩ := ldi_is h
  have h3 := (cell_back hc).2
  unfold oneJ one
  rw [hc, show (ldi l * 157 + c) / 157 = ldi l by omega, show (ldi l * 157 + c) % 157 = c by omega, h1]
  exact ⟨rfl, by omega⟩
/-- The code of a place. -/
def cdJ (j : Nat) : Nat := ldx (j / 157) * 256 + cellB (j % 157)
/-- The first place from j on, of so many, that has a sign. -/
def jF (p : Nat) : Nat → Nat → Option Nat
  | 0, _ => none
  | f + 1, j => if oneJ j = p then some j else jF p f (j + 1)
/-- The place of a sign. -/
def plc (p : Int) : Option Nat := if p ≤ 0 then none else jF p.toNat 785 0
/-- The second byte of two signs at once. -/
def twB (p q : Int) : Option Nat := if p = 202 ∧ q = 772 then some 98 else if p = 202 ∧ q = 780 then some 100 else if p = 234 ∧ q = 772 then some 163 else if p = 234 ∧ q = 780 then some 165 else none
/-- The two signs of a code; noughts: there are none. -/
def tw (k : Nat) : Nat × Nat := if k = 34914 then (202, 772) else if k = 34916 then (202, 780) else if k = 34979 then (234, 772) else if k = 34981 then (234, 780) else (0, 0)
/-- The code of the signs with which some begin, and how many. -/
def codeW : List Int → Option (Nat × Nat)
  | [] => none
  | [p] => (plc p).map fun j => (cdJ j, 1)
  | p :: q :: _ => match twB p q with
    | some b => some (34816 + b, 2)
    | none => (plc p).map fun j => (cdJ j, 1)
/-- The signs of two bytes. -/
def sgL (l b : Nat) : List Nat := if (tw (l * 256 + b)).1 ≠ 0 then [(tw (l * 256 + b)).1, (tw (l * 256 + b)).2] else if one l b ≠ 0 then [one l b] else []
theorem tw_cases (k : Nat) : (k = 34914 ∧ tw k = (202, 772)) ∨ (k = 34916 ∧ tw k = (202, 780)) ∨ (k = 34979 ∧ tw k = (234, 772)) ∨ (k = 34981 ∧ tw k = (234, 780)) ∨ (tw k = (0, 0) ∧ k ≠ 34914 ∧ k ≠ 34916 ∧ k ≠ 34979 ∧ k ≠ 34981) := by
  unfold tw
  by_cases h1 : k = 34914
  · left; exact ⟨h1, if_pos h1⟩
  rw [if_neg h1]
  by_cases h2 : k = 34916
  · right; left; exact ⟨h2, if_pos h2⟩
  rw [if_neg h2]
  by_cases h3 : k = 34979
  · right; right; left; exact ⟨h3, if_pos h3⟩
  rw [if_neg h3]
  by_cases h4 : k = 34981
  · right; right; right; left; exact ⟨h4, if_pos h4⟩
  · right; right; right; right; exact ⟨if_neg h4, h1, h2, h3, h4⟩
theorem one_has {l b : Nat} (h : one l b ≠ 0) : ∃ c, cell b = some c ∧ (l = 136 ∨ l = 161 ∨ l = 163 ∨ l = 164 ∨ l = 165) := by
  unfold one at h
  cases hc : cell b with
  | none => rw [hc] at h; exact absurd rfl h
  | some c =>
    rw [hc] at h
    refine ⟨c, rfl, ?_⟩
    by_cases hl : l = 136 ∨ l = 161 ∨ l = 163 ∨ l = 164 ∨ l = 165
    · exact hl
    · exact absurd (sgC_none hl c) h
end Go.Proofs.YtiigknimfibdpaaGreatDoor.bg
