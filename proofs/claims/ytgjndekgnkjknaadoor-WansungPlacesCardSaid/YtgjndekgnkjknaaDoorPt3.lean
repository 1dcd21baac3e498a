/- Points, Valid, Count, Plain of layer 2; Fault, Scalar of the document's answer: contracts. -/
import Derived.Test.YtgjndekgnkjknaaDoorPt2
import Derived.Lib.ValidLaws
namespace Go.Proofs.YtgjndekgnkjknaaDoor.pt
open Go.RowKit Go.Lib
set_option linter.unusedVariables false
theorem ret_bool {a b : Bool} (h : a = b) : Ending.returned (.bool a) = .returned (.bool b) := by rw [h]
theorem sc_valid (s : ByteArray) : ∀ f pos, s.size ≤ pos + f → validD (s.data.toList.drop pos) = (sc s f pos).2.isNone
  | 0, pos, h => by
    have : s.data.toList.drop pos = [] := List.drop_eq_nil_of_le (by rw [Array.length_toList]; exact h)
    rw [this]; rfl
  | f + 1, pos, h => by
    by_cases hp : pos < s.size
    · have hne : s.data.toList.drop pos ≠ [] := by
        intro h0
        have := congrArg List.length h0
        rw [List.length_drop, Array.length_toList] at this
        have e : s.data.size = s.size := rfl
        simp at this; omega
      rw [validD_step _ hne, decodeL_drop]
      cases hb : bad s pos with
      | true =>
        rw [sc_bad s (f + 1) pos hp h hb]
        unfold bad at hb
        rw [if_pos (by simpa using hb)]; rfl
      | false =>
        rw [sc_good s f pos hp hb]
        unfold bad at hb
        rw [if_neg (by simpa using hb), List.drop_drop]
        have := width_pos s pos
        exact sc_valid s f (pos + (Utf8.decode s pos).2) (by omega)
    · have : s.data.toList.drop pos = [] := List.drop_eq_nil_of_le (by rw [Array.length_toList]; have e : s.data.size = s.size := rfl; omega)
      rw [this, sc_end s (f + 1) pos hp]; rfl
theorem sc_count (s : ByteArray) : ∀ f pos, (sc s f pos).2 = none → runeCountFrom s f pos = (sc s f pos).1.length
  | 0, pos, _ => rfl
  | f + 1, pos, h => by
    by_cases hp : pos < s.size
    · cases hb : bad s pos with
      | true => simp [sc, hp, hb] at h
      | false =>
        rw [sc_good s f pos hp hb] at h ⊢
        have ih := sc_count s f (pos + (Utf8.decode s pos).2) h
        simp only [runeCountFrom, if_pos hp, List.length_cons, ih]
        omega
    · rw [sc_end s (f + 1) pos hp]
      simp [runeCountFrom, hp]
theorem sc_len (s : ByteArray) : ∀ f pos, (sc s f pos).1.length ≤ f
  | 0, pos => by simp [sc]
  | f + 1, pos => by
    by_cases hp : pos < s.size
    · cases hb : bad s pos with
      | true => simp [sc, hp, hb]
      | false => rw [sc_good s f pos hp hb]; simp only [List.length_cons]; have := sc_len s f (pos + (Utf8.decode s pos).2); omega
    · rw [sc_end s (f + 1) pos hp]; simp
theorem scan_valid (s : ByteArray) : validD s.data.toList = (scan s).2.isNone := by
  have := sc_valid s s.size 0 (by omega)
  rwa [List.drop_zero] at this
theorem refScalar_any (r : Int) (w : World) : Calls Tryd.prog 56 #[.int .i32 r] w fun x w' => x = .returned (.bool (validRune r)) ∧ w = w' := by
  go_enter Tryd.func56, Tryd.ntmps56
  go_wp2
  all_goals
    go_ret
    refine ⟨ret_bool ?_, rfl⟩
    unfold validRune
    rw [Bool.eq_iff_iff]
    simp
    try omega
def isPlain (s : ByteArray) : Bool := s.data.toList.all (fun b => decide (b.toNat < 128))
end Go.Proofs.YtgjndekgnkjknaaDoor.pt
