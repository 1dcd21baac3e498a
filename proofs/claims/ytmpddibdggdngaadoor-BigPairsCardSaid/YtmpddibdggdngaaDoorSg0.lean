/- The signs of the charsets of one byte a sign (layer 5), plainly. -/
import Derived.Test.YtmpddibdggdngaaDoorPtB
namespace Go.Proofs.YtmpddibdggdngaaDoor.sg
open Go.RowKit Go.Lib
set_option linter.unusedVariables false
/-- The three rows of signs, by their numbers. -/
def rusL : List Nat := [9472, 9474, 9484, 9488, 9492, 9496, 9500, 9508, 9516, 9524, 9532, 9600, 9604, 9608, 9612, 9616, 9617, 9618, 9619, 8992, 9632, 8729, 8730, 8776, 8804, 8805, 160, 8993, 176, 178, 183, 247, 9552, 9553, 9554, 1105, 9555, 9556, 9557, 9558, 9559, 9560, 9561, 9562, 9563, 9564, 9565, 9566, 9567, 9568, 9569, 1025, 9570, 9571, 9572, 9573, 9574, 9575, 9576, 9577, 9578, 9579, 9580, 169, 1102, 1072, 1073, 1094, 1076, 1077, 1092, 1075, 1093, 1080, 1081, 1082, 1083, 1084, 1085, 1086, 1087, 1103, 1088, 1089, 1090, 1091, 1078, 1074, 1100, 1099, 1079, 1096, 1101, 1097, 1095, 1098, 1070, 1040, 1041, 1062, 1044, 1045, 1060, 1043, 1061, 1048, 1049, 1050, 1051, 1052, 1053, 1054, 1055, 1071, 1056, 1057, 1058, 1059, 1046, 1042, 1068, 1067, 1047, 1064, 1069, 1065, 1063, 1066]
def fraL : List Nat := [9617, 9618, 9619, 9474, 9508, 9569, 9570, 9558, 9557, 9571, 9553, 9559, 9565, 9564, 9563, 9488, 9492, 9524, 9516, 9500, 9472, 9532, 9566, 9567, 9562, 9556, 9577, 9574, 9568, 9552, 9580, 9575, 9576, 9572, 9573, 9561, 9560, 9554, 9555, 9579, 9578, 9496, 9484, 9608, 9604, 9612, 9616, 9600]
def othL : List Nat := [1025, 1105, 1028, 1108, 1031, 1111, 1038, 1118, 176, 8729, 183, 8730, 8470, 164, 9632, 160]
/-- The sign of a byte. -/
def sgn (c : Int) (n : Nat) : Int :=
  if c = 0 ∨ n < 128 then (n : Int)
  else if c = 3 then (if n < 176 then (n : Int) + 912 else if n < 224 then ((fraL.getD (n - 176) 0 : Nat) : Int) else if n < 240 then (n : Int) + 864 else ((othL.getD (n - 240) 0 : Nat) : Int))
  else if c = 2 ∧ n = 164 then 1108 else if c = 2 ∧ n = 166 then 1110 else if c = 2 ∧ n = 167 then 1111 else if c = 2 ∧ n = 173 then 1169
  else if c = 2 ∧ n = 180 then 1028 else if c = 2 ∧ n = 182 then 1030 else if c = 2 ∧ n = 183 then 1031 else if c = 2 ∧ n = 189 then 1168
  else ((rusL.getD (n - 128) 0 : Nat) : Int)
def sgns (c : Int) : List Int := (List.range 256).map (sgn c)
theorem sgns_valid : (sgns 0).all validRune = true ∧ (sgns 1).all validRune = true ∧ (sgns 2).all validRune = true ∧ (sgns 3).all validRune = true := by decide +kernel
theorem sgns_nodup : (sgns 0).Nodup ∧ (sgns 1).Nodup ∧ (sgns 2).Nodup ∧ (sgns 3).Nodup := by decide +kernel
theorem sgns_get (c : Int) (n : Nat) (h : n < 256) : (sgns c)[n]? = some (sgn c n) := by
  unfold sgns
  rw [List.getElem?_map, List.getElem?_range h]; rfl
theorem four {c : Int} (h0 : 0 ≤ c) (h1 : c ≤ 3) : c = 0 ∨ c = 1 ∨ c = 2 ∨ c = 3 := by omega
theorem sgn_valid {c : Int} {n : Nat} (h0 : 0 ≤ c) (h1 : c ≤ 3) (hn : n < 256) : validRune (sgn c n) = true := by
  have hm : sgn c n ∈ sgns c := List.mem_of_getElem? (sgns_get c n hn)
  have ⟨a, b, d, e⟩ := sgns_valid
  rcases four h0 h1 with rfl | rfl | rfl | rfl
  · exact List.all_eq_true.1 a _ hm
  · exact List.all_eq_true.1 b _ hm
  · exact List.all_eq_true.1 d _ hm
  · exact List.all_eq_true.1 e _ hm
theorem nodup_inj {l : List Int} (h : l.Nodup) {i j : Nat} {x : Int} (hi : l[i]? = some x) (hj : l[j]? = some x) : i = j := by
  have hi' := (List.getElem?_eq_some_iff.1 hi)
  have hj' := (List.getElem?_eq_some_iff.1 hj)
  obtain ⟨a, ha⟩ := hi'
  obtain ⟨b, hb⟩ := hj'
  have hp := List.pairwise_iff_getElem.1 h
  rcases Nat.lt_trichotomy i j with hlt | he | hgt
  · exact absurd (ha.trans hb.symm) (hp i j a b hlt)
  · exact he
  · exact absurd (hb.trans ha.symm) (hp j i b a hgt)
theorem sgn_inj {c : Int} {n m : Nat} (h0 : 0 ≤ c) (h1 : c ≤ 3) (hn : n < 256) (hm : m < 256) (h : sgn c n = sgn c m) : n = m := by
  have a1 := sgns_get c n hn
  have a2 := sgns_get c m hm
  rw [← h] at a2
  have ⟨a, b, d, e⟩ := sgns_nodup
  rcases four h0 h1 with rfl | rfl | rfl | rfl
  · exact nodup_inj a a1 a2
  · exact nodup_inj b a1 a2
  · exact nodup_inj d a1 a2
  · exact nodup_inj e a1 a2
/-- The byte of a sign; -1. -/
def byFrom (c p : Int) : Nat → Nat → Int
  | 0, _ => -1
  | f + 1, n => if sgn c n = p then (n : Int) else byFrom c p f (n + 1)
def byte (c p : Int) : Int := byFrom c p 256 0
theorem byFrom_cases (c p : Int) : ∀ f n, (byFrom c p f n = -1 ∧ ∀ k, n ≤ k → k < n + f → sgn c k ≠ p) ∨ ∃ k : Nat, byFrom c p f n = (k : Int) ∧ n ≤ k ∧ k < n + f ∧ sgn c k = p
  | 0, n => .inl ⟨rfl, fun k h1 h2 => by omega⟩
  | f + 1, n => by
    unfold byFrom
    by_cases h : sgn c n = p
    · rw [if_pos h]; exact .inr ⟨n, rfl, Nat.le_refl _, by omega, h⟩
    · rw [if_neg h]
      rcases byFrom_cases c p f (n + 1) with ⟨h1, h2⟩ | ⟨k, h1, h2, h3, h4⟩
      · refine .inl ⟨h1, fun k h3 h4 => ?_⟩
        by_cases hk : k = n
        · rw [hk]; exact h
        · exact h2 k (by omega) (by omega)
      · exact .inr ⟨k, h1, by omega, by omega, h4⟩
theorem byte_cases (c p : Int) : (byte c p = -1 ∧ ∀ k, k < 256 → sgn c k ≠ p) ∨ ∃ k : Nat, byte c p = (k : Int) ∧ k < 256 ∧ sgn c k = p := by
  rcases byFrom_cases c p 256 0 with ⟨h1, h2⟩ | ⟨k, h1, h2, h3, h4⟩
  · exact .inl ⟨h1, fun k hk => h2 k (by omega) (by omega)⟩
  · exact .inr ⟨k, h1, by omega, h4⟩
theorem byte_sgn {c : Int} {n : Nat} (h0 : 0 ≤ c) (h1 : c ≤ 3) (hn : n < 256) : byte c (sgn c n) = (n : Int) := by
  rcases byte_cases c (sgn c n) with ⟨_, h⟩ | ⟨k, h, hk, e⟩
  · exact absurd rfl (h n hn)
  · rw [h, sgn_inj h0 h1 hk hn e]
/-- A row of bytes as signs. -/
def sdec (c : Int) (b : List UInt8) : List Int := b.map fun x => sgn c x.toNat
/-- Signs as bytes, or the place in the text of the first that has none. -/
def senc (c : Int) : Nat → List Int → List UInt8 × Option Nat
  | _, [] => ([], none)
  | at', p :: l => if byte c p < 0 then ([], some at') else (UInt8.ofNat (byte c p).toNat :: (senc c (at' + (encodeRuneZ p).length) l).1, (senc c (at' + (encodeRuneZ p).length) l).2)
theorem sdec_valid {c : Int} (h0 : 0 ≤ c) (h1 : c ≤ 3) (b : List UInt8) : (sdec c b).all validRune = true := by
  unfold sdec
  rw [List.all_map, List.all_eq_true]
  intro x _
  exact sgn_valid h0 h1 x.toNat_lt
theorem senc_sdec {c : Int} (h0 : 0 ≤ c) (h1 : c ≤ 3) : ∀ (b : List UInt8) (a : Nat), senc c a (sdec c b) = (b, none)
  | [], _ => rfl
  | x :: b, a => by
    have e := byte_sgn h0 h1 x.toNat_lt
    have e2 : sdec c (x :: b) = sgn c x.toNat :: sdec c b := rfl
    rw [e2]
    unfold senc
    rw [e, if_neg (by omega), senc_sdec h0 h1 b]
    simp
theorem sdec_senc {c : Int} : ∀ (l : List Int) (a : Nat), (senc c a l).2 = none → sdec c (senc c a l).1 = l
  | [], _, _ => rfl
  | p :: l, a, h => by
    unfold senc at h ⊢
    rcases byte_cases c p with ⟨h1, _⟩ | ⟨k, h1, h2, h3⟩
    · rw [h1] at h; simp at h
    · rw [h1, if_neg (by omega)] at h
      rw [h1, if_neg (by omega)]
      have ih := sdec_senc l _ h
      have e : sdec c (UInt8.ofNat ((k : Int)).toNat :: (senc c (a + (encodeRuneZ p).length) l).1) = sgn c (UInt8.ofNat ((k : Int)).toNat).toNat :: sdec c (senc c (a + (encodeRuneZ p).length) l).1 := rfl
      show sdec c (UInt8.ofNat ((k : Int)).toNat :: (senc c (a + (encodeRuneZ p).length) l).1) = p :: l
      rw [e, ih]
      congr 1
      have : (UInt8.ofNat ((k : Int)).toNat).toNat = k := by simp; omega
      rw [this, h3]
end Go.Proofs.YtmpddibdggdngaaDoor.sg
