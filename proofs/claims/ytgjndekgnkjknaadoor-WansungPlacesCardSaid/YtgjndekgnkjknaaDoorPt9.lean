/- The document's answer of layer 2: At is what decoding says: a contract. -/
import Derived.Test.YtgjndekgnkjknaaDoorPt7
import Derived.Test.YtgjndekgnkjknaaDoorPt8
namespace Go.Proofs.YtgjndekgnkjknaaDoor.pt
open Go.RowKit Go.Lib
set_option linter.unusedVariables false
theorem get_at (s : ByteArray) (i : Nat) (h : i < s.size) : s.get! i = s[i] := by
  have h' : i < s.data.size := h
  show s.data[i]! = s.data[i]
  exact getElem!_pos s.data i h'
theorem mo_eq (s : ByteArray) (i k : Nat) : mo s (i + k) = moN (s.size - i - k) (s.get! (i + k)).toNat := by
  unfold mo moN
  by_cases h : i + k < s.size
  · rw [dif_pos h, get_at s (i + k) h]
    by_cases h2 : 128 ≤ s[i + k].toNat ∧ s[i + k].toNat ≤ 191
    · rw [if_pos h2, if_pos (by omega)]
    · rw [if_neg h2, if_neg (by omega)]
  · rw [dif_neg h, if_neg (by omega)]
theorem len_two {q : Int} (h0 : 128 ≤ q) (h1 : q ≤ 2047) : (encodeRuneZ q).length = 2 := by rw [encodeRuneZ_two h0 h1]; rfl
theorem len_one {q : Int} (h0 : 0 ≤ q) (h1 : q ≤ 127) : (encodeRuneZ q).length = 1 := by rw [encodeRuneZ_one h0 h1]; rfl
theorem len_three {q : Int} (h : (2048 ≤ q ∧ q < 55296) ∨ (57343 < q ∧ q ≤ 65535)) : (encodeRuneZ q).length = 3 := by rw [encodeRuneZ_three h]; rfl
theorem len_four {q : Int} (h0 : 65536 ≤ q) (h1 : q ≤ 1114111) : (encodeRuneZ q).length = 4 := by rw [encodeRuneZ_four h0 h1]; rfl
theorem len_low {q : Int} (h0 : 0 ≤ q) (h1 : q ≤ 2047) : (encodeRuneZ q).length ≤ 2 := by
  by_cases h : q ≤ 127
  · rw [len_one h0 h]; omega
  · rw [len_two (by omega) h1]; omega
theorem valid_of {q : Int} (h : (0 ≤ q ∧ q < 55296) ∨ (57343 < q ∧ q ≤ 1114111)) : validRune q = true := by unfold validRune; exact decide_eq_true h
theorem invalid_of {q : Int} (h : ¬ ((0 ≤ q ∧ q < 55296) ∨ (57343 < q ∧ q ≤ 1114111))) : validRune q = false := by unfold validRune; exact decide_eq_false h
theorem at_ref (s : ByteArray) (i : Nat) (w : World) (hi : i < s.size) (hs : s.size ≤ 4000000000) (r : Int × Int)
    (hr : r = refN (s.size - i) (s.get! i).toNat (s.get! (i + 1)).toNat (s.get! (i + 2)).toNat (s.get! (i + 3)).toNat) :
    Calls Tryd.prog 51 #[.string s, .int .i64 i] w fun x w' => x = .returned (.tuple #[.int .i32 r.1, .int .i64 r.2]) ∧ Below w.heap.size w w' := by
  have hb0 : (s.get! i).toNat = s[i].toNat := by rw [get_at s i hi]
  have hub : s[i].toNat < 256 := s[i].toNat_lt
  rw [hb0] at hr
  have e1 := mo_eq s i 1
  have e2 := mo_eq s i 2
  have e3 := mo_eq s i 3
  have r1 := mo_range s (i + 1)
  have r2 := mo_range s (i + 2)
  have r3 := mo_range s (i + 3)
  unfold refN at hr
  rw [← e1, ← e2, ← e3] at hr
  clear e1 e2 e3
  by_cases c0 : s[i].toNat < 128
  · rw [if_pos c0] at hr
    subst hr
    exact at_one s i w hi hs c0
  rw [if_neg c0] at hr
  by_cases c1 : s[i].toNat < 192
  · rw [if_pos c1] at hr
    subst hr
    exact at_low s i w hi hs (by omega) c1
  rw [if_neg c1] at hr
  by_cases c2 : s[i].toNat < 224
  · rw [if_pos c2] at hr
    by_cases m1 : mo s (i + 1) = -1
    · rw [if_pos m1] at hr
      subst hr
      exact at_two_neg1 s i w hi hs (by omega) c2 m1
    rw [if_neg m1] at hr
    have l1 : 0 ≤ mo s (i + 1) := by omega
    have u1 : mo s (i + 1) ≤ 63 := by omega
    by_cases q : ((s[i].toNat : Int) - 192) * 64 + mo s (i + 1) < 128
    · rw [if_pos q] at hr
      subst hr
      exact at_two_len s i w hi hs (by omega) c2 _ rfl l1 u1 (valid_of (by omega)) (by rw [len_one (by omega) (by omega)]; decide)
    · rw [if_neg q] at hr
      subst hr
      exact at_two_ok s i w hi hs (by omega) c2 _ rfl l1 u1 (valid_of (by omega)) (len_two (by omega) (by omega))
  rw [if_neg c2] at hr
  by_cases c3 : s[i].toNat < 240
  · rw [if_pos c3] at hr
    by_cases m1 : mo s (i + 1) = -1
    · rw [if_pos m1] at hr
      subst hr
      exact at_three_neg1 s i w hi hs (by omega) c3 m1
    rw [if_neg m1] at hr
    have l1 : 0 ≤ mo s (i + 1) := by omega
    have u1 : mo s (i + 1) ≤ 63 := by omega
    by_cases m2 : mo s (i + 2) = -1
    · rw [if_pos m2] at hr
      subst hr
      exact at_three_neg2 s i w hi hs (by omega) c3 _ rfl l1 u1 m2
    rw [if_neg m2] at hr
    have l2 : 0 ≤ mo s (i + 2) := by omega
    have u2 : mo s (i + 2) ≤ 63 := by omega
    simp only at hr
    by_cases v : 55296 ≤ (((s[i].toNat : Int) - 224) * 64 + mo s (i + 1)) * 64 + mo s (i + 2) ∧ (((s[i].toNat : Int) - 224) * 64 + mo s (i + 1)) * 64 + mo s (i + 2) ≤ 57343
    · rw [if_pos (Or.inr v)] at hr
      subst hr
      exact at_three_bad s i w hi hs (by omega) c3 _ rfl l1 u1 _ rfl l2 u2 (invalid_of (by omega))
    by_cases q : (((s[i].toNat : Int) - 224) * 64 + mo s (i + 1)) * 64 + mo s (i + 2) < 2048
    · rw [if_pos (Or.inl q)] at hr
      subst hr
      exact at_three_len s i w hi hs (by omega) c3 _ rfl l1 u1 _ rfl l2 u2 (valid_of (by omega)) (by have := len_low (q := (((s[i].toNat : Int) - 224) * 64 + mo s (i + 1)) * 64 + mo s (i + 2)) (by omega) (by omega); omega)
    · rw [if_neg (by omega)] at hr
      subst hr
      exact at_three_ok s i w hi hs (by omega) c3 _ rfl l1 u1 _ rfl l2 u2 (valid_of (by omega)) (len_three (by omega))
  rw [if_neg c3] at hr
  by_cases c4 : s[i].toNat < 248
  · rw [if_pos c4] at hr
    by_cases m1 : mo s (i + 1) = -1
    · rw [if_pos m1] at hr
      subst hr
      exact at_four_neg1 s i w hi hs (by omega) c4 m1
    rw [if_neg m1] at hr
    have l1 : 0 ≤ mo s (i + 1) := by omega
    have u1 : mo s (i + 1) ≤ 63 := by omega
    by_cases m2 : mo s (i + 2) = -1
    · rw [if_pos m2] at hr
      subst hr
      exact at_four_neg2 s i w hi hs (by omega) c4 _ rfl l1 u1 m2
    rw [if_neg m2] at hr
    have l2 : 0 ≤ mo s (i + 2) := by omega
    have u2 : mo s (i + 2) ≤ 63 := by omega
    by_cases m3 : mo s (i + 3) = -1
    · rw [if_pos m3] at hr
      subst hr
      exact at_four_neg3 s i w hi hs (by omega) c4 _ rfl l1 u1 _ rfl l2 u2 m3
    rw [if_neg m3] at hr
    have l3 : 0 ≤ mo s (i + 3) := by omega
    have u3 : mo s (i + 3) ≤ 63 := by omega
    simp only at hr
    obtain ⟨Q, hQ⟩ : ∃ Q, Q = ((((s[i].toNat : Int) - 240) * 64 + mo s (i + 1)) * 64 + mo s (i + 2)) * 64 + mo s (i + 3) := ⟨_, rfl⟩
    rw [← hQ] at hr
    have hQ0 : 0 ≤ Q := by omega
    by_cases v : (0 ≤ Q ∧ Q < 55296) ∨ (57343 < Q ∧ Q ≤ 1114111)
    · by_cases q : Q < 65536
      · rw [if_pos (Or.inl q)] at hr
        subst hr
        have hl : (encodeRuneZ Q).length ≠ 4 := by
          by_cases z : Q ≤ 2047
          · have := len_low hQ0 z; omega
          · rw [len_three (by omega)]; decide
        exact at_four_len s i w hi hs (by omega) c4 _ rfl l1 u1 _ rfl l2 u2 _ rfl l3 u3 (by rw [← hQ]; exact valid_of v) (by rw [← hQ]; exact hl)
      · rw [if_neg (by omega)] at hr
        subst hr
        have := at_four_ok s i w hi hs (by omega) c4 _ rfl l1 u1 _ rfl l2 u2 _ rfl l3 u3 (by rw [← hQ]; exact valid_of v) (by rw [← hQ]; exact len_four (by omega) (by omega))
        rw [← hQ] at this
        exact this
    · rw [if_pos (by omega)] at hr
      subst hr
      exact at_four_bad s i w hi hs (by omega) c4 _ rfl l1 u1 _ rfl l2 u2 _ rfl l3 u3 (by rw [← hQ]; exact invalid_of v)
  · rw [if_neg c4] at hr
    subst hr
    exact at_high s i w hi hs (by omega) hub
/-- The answer: a sign and its bytes; (0, 0): none. -/
theorem at_any (s : ByteArray) (i : Nat) (w : World) (hi : i < s.size) (hs : s.size ≤ 4000000000) :
    Calls Tryd.prog 51 #[.string s, .int .i64 i] w fun x w' => x = .returned (.tuple #[.int .i32 (if bad s i then 0 else (Utf8.decode s i).1), .int .i64 (if bad s i then 0 else (Utf8.decode s i).2)]) ∧ Below w.heap.size w w' := by
  have h := at_ref s i w hi hs _ rfl
  rw [refN_eq _ _ _ _ _ (by omega) (s.get! i).toNat_lt (s.get! (i + 1)).toNat_lt (s.get! (i + 2)).toNat_lt (s.get! (i + 3)).toNat_lt, ← decode_at] at h
  unfold bad
  by_cases hb : Utf8.decode s i = (65533, 1)
  · rw [if_pos hb] at h
    rw [hb]
    exact h
  · rw [if_neg hb] at h
    have : ((Utf8.decode s i).1 == 65533 && (Utf8.decode s i).2 == 1) = false := by
      rw [Bool.eq_false_iff]
      intro hh
      simp at hh
      exact hb (Prod.ext hh.1 hh.2)
    rw [this]
    exact h
end Go.Proofs.YtgjndekgnkjknaaDoor.pt
