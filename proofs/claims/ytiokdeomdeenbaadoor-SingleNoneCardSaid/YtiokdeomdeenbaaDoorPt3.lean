/- Points, Valid, Count, Plain of layer 2; Fault, Scalar of the document's answer: contracts. -/
import Derived.Test.YtiokdeomdeenbaaDoorPt2
import Derived.Lib.ValidLaws
namespace Go.Proofs.YtiokdeomdeenbaaDoor.pt
open Go.RowKit Go.Lib
set_option linter.unusedVariables false
theorem ret_bool {a b : Bool} (h : a = b) : Ending.returned (.bool a) = .returned (.bool b) := by rw [h]
theorem bad_any (w : World) (e at' : Int) : Calls Tryd.prog 17 #[.agg #[.int .i64 e, .int .i64 at']] w fun x w' => x = .returned (.bool (e != 0)) ∧ Below w.heap.size w w' := by
  go_enter Tryd.func17, Tryd.ntmps17
  go_wp2
  go_ret
  exact ⟨rfl, (Below.refl _ _).alloc (Nat.le_refl _) _⟩
theorem sc_valid (s : ByteArray) : ∀ f pos, s.size ≤ pos + f → validD (s.data.toList.drop pos) = (sc s f pos).2.isNone
  | 0, pos, h => by
    have : s.data.toList.drop pos = [] := List.drop_eq_nil_of_le (by rw [Array.length_toList]; exact h)
    rw [this]; rfl
  | f + 1, pos, h => by
    by_cases hp : pos < s.size
    · have hne : s.data.toList.drop pos ≠ [] := by
        intro h0
        have := congrArg List.length h0
        rw [List.length_drop, Array.length_toList] at this
        have e : s.data.size = s.size := rfl
        simp at this; omega
      rw [validD_step _ hne, decodeL_drop]
      cases hb : bad s pos with
      | true =>
        rw [sc_bad s (f + 1) pos hp h hb]
        unfold bad at hb
        rw [if_pos (by simpa using hb)]; rfl
      | false =>
        rw [sc_good s f pos hp hb]
        unfold bad at hb
        rw [if_neg (by simpa using hb), List.drop_drop]
        have := width_pos s pos
        exact sc_valid s f (pos + (Utf8.decode s pos).2) (by omega)
    · have : s.data.toList.drop pos = [] := List.drop_eq_nil_of_le (by rw [Array.length_toList]; have e : s.data.size = s.size := rfl; omega)
      rw [this, sc_end s (f + 1) pos hp]; rfl
theorem sc_count (s : ByteArray) : ∀ f pos, (sc s f pos).2 = none → runeCountFrom s f pos = (sc s f pos).1.length
  | 0, pos, _ => rfl
  | f + 1, pos, h => by
    by_cases hp : pos < s.size
    · cases hb : bad s pos with
      | true => simp [sc, hp, hb] at h
      | false =>
        rw [sc_good s f pos hp hb] at h ⊢
        have ih := sc_count s f (pos + (Utf8.decode s pos).2) h
        simp only [runeCountFrom, if_pos hp, List.length_cons, ih]
        omega
    · rw [sc_end s (f + 1) pos hp]
      simp [runeCountFrom, hp]
theorem sc_len (s : ByteArray) : ∀ f pos, (sc s f pos).1.length ≤ f
  | 0, pos => by simp [sc]
  | f + 1, pos => by
    by_cases hp : pos < s.size
    · cases hb : bad s pos with
      | true => simp [sc, hp, hb]
      | false => rw [sc_good s f pos hp hb]; simp only [List.length_cons]; have := sc_len s f (pos + (Utf8.decode s pos).2); omega
    · rw [sc_end s (f + 1) pos hp]; simp
theorem scan_valid (s : ByteArray) : validD s.data.toList = (scan s).2.isNone := by
  have := sc_valid s s.size 0 (by omega)
  rwa [List.drop_zero] at this
theorem valid_any (s : ByteArray) (w : World) (hs : s.size ≤ 4000000000) (hT : Tabs w) : Calls Tryd.prog 92 #[.string s] w fun x w' => x = .returned (.bool (scan s).2.isNone) ∧ Below w.heap.size w w' := by
  have hc := Tryd.utf8_ValidString s w (by omega) hT
  rw [scan_valid] at hc
  generalize (scan s).2.isNone = V at hc ⊢
  have HC := Lib.hid hc
  clear hc
  go_enter Tryd.func92, Tryd.ntmps92
  go_wp2_with (go_at_call 105; refine HC.out.mono ?_; rintro e1 w1 ⟨rfl, hb1⟩)
  go_ret
  exact ⟨rfl, hb1⟩
theorem count_any (s : ByteArray) (w : World) (hs : s.size ≤ 4000000000) (hT : Tabs w) : Calls Tryd.prog 83 #[.string s] w fun x w' => x = .returned (.int .i64 (if (scan s).2.isNone then ((scan s).1.length : Int) else 0)) ∧ Below w.heap.size w w' := by
  have hv := valid_any s w hs hT
  have hrc : ∀ w2, Calls Tryd.prog 93 #[.string s] w2 fun e w' => e = .returned (.int .i64 (runeCount s)) ∧ Below w2.heap.size w2 w' := fun w2 => (Tryd.utf8_RuneCountInString s w2 (by omega)).mono fun e w' ⟨h1, pos, h2⟩ => ⟨h1, by subst h2; exact (Below.refl _ _).alloc (Nat.le_refl _) _⟩
  have hcn : (scan s).2.isNone = true → runeCount s = (scan s).1.length := fun h => sc_count s s.size 0 (Option.isNone_iff_eq_none.1 h)
  generalize runeCount s = N at hrc hcn
  generalize (scan s).1.length = M at hcn ⊢
  generalize (scan s).2.isNone = V at hv hcn ⊢
  cases V with
  | true =>
    have := hcn rfl
    subst this
    have HV := Lib.hid hv; have HR := Lib.hid hrc
    clear hv hrc hcn
    go_enter Tryd.func83, Tryd.ntmps83
    go_wp2_with (first | (go_at_call 92; refine HV.out.mono ?_; rintro e1 w1 ⟨rfl, hb1⟩) | (go_at_call 93; refine (HR.out _).mono ?_; rintro e2 w2 ⟨rfl, hb2⟩))
    go_ret
    exact ⟨rfl, hb1.trans (hb2.mono hb1.size)⟩
  | false =>
    have HV := Lib.hid hv
    clear hv hrc hcn
    go_enter Tryd.func83, Tryd.ntmps83
    go_wp2_with (go_at_call 92; refine HV.out.mono ?_; rintro e1 w1 ⟨rfl, hb1⟩)
    go_ret
    exact ⟨rfl, hb1⟩
theorem refScalar_any (r : Int) (w : World) : Calls Tryd.prog 68 #[.int .i32 r] w fun x w' => x = .returned (.bool (validRune r)) ∧ w = w' := by
  go_enter Tryd.func68, Tryd.ntmps68
  go_wp2
  all_goals
    go_ret
    refine ⟨ret_bool ?_, rfl⟩
    unfold validRune
    rw [Bool.eq_iff_iff]
    simp
    try omega
theorem fault_any (z : Int) (w : World) : Calls Tryd.prog 34 #[.int .i64 z] w fun x w' => x = .returned (.agg #[.int .i64 (if z < 0 then 0 else 2), .int .i64 (if z < 0 then 0 else z)]) ∧ Below w.heap.size w w' := by
  by_cases hz : z < 0
  · rw [if_pos hz, if_pos hz]
    go_enter Tryd.func34, Tryd.ntmps34
    go_wp2
    exact bodyPost_ret (v := .agg #[.int .i64 0, .int .i64 0]) (by simp [results, Tryd.results34, go_sem]) rfl ⟨rfl, by repeat (first | (with_reducible exact Below.refl _ _) | (with_reducible refine Below.setCell ?_ (by simp) _) | (with_reducible refine Below.alloc ?_ (by simp) _))⟩
  · rw [if_neg hz, if_neg hz]
    go_enter Tryd.func34, Tryd.ntmps34
    go_wp2
    exact bodyPost_ret (v := .agg #[.int .i64 2, .int .i64 z]) (by simp [results, Tryd.results34, go_sem]) rfl ⟨rfl, by repeat (first | (with_reducible exact Below.refl _ _) | (with_reducible refine Below.setCell ?_ (by simp) _) | (with_reducible refine Below.alloc ?_ (by simp) _))⟩
def isPlain (s : ByteArray) : Bool := s.data.toList.all (fun b => decide (b.toNat < 128))
end Go.Proofs.YtiokdeomdeenbaaDoor.pt
