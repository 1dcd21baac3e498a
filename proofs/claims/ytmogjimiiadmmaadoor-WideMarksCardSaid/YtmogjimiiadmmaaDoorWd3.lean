/- Decode, Mark, Marked of layer 3: contracts. -/
import Derived.Test.YtmogjimiiadmmaaDoorWd2
namespace Go.Proofs.YtmogjimiiadmmaaDoor.wd
open Go.RowKit Go.Lib
set_option linter.unusedVariables false
theorem fb_zero (d : Option Nat) : fb 0 d = pt.fa d := by cases d <;> simp [fb, pt.fa]
set_option maxRecDepth 100000 in
theorem Decode_any (s : ByteArray) (big : Bool) (w : World) (hs : s.size ≤ 8000) :
    Calls Tryd.prog 20 #[.string s, .bool big] w fun e w' => e = .returned (.tuple #[.string (wt (wscan s big)), .agg #[.int .i64 (pt.fe (wscan s big).2), .int .i64 (pt.fa (wscan s big).2)]]) ∧ Below w.heap.size w w' := by
  have hrd := oct.read_any s (w.alloc (.cells #[.int .i64 0, .int .i64 0] 29))
  rw [World.size_alloc] at hrd
  have hdc := fun w2 h2 => decode_any s big (w.heap.size + 1) 0 w2 h2 hs (by omega) (by omega)
  rw [fb_zero] at hdc
  generalize wt (wscan s big) = T at *
  generalize pt.fe (wscan s big).2 = E at *
  generalize pt.fa (wscan s big).2 = P at *
  have HRD := Lib.hid hrd; have HDC := Lib.hid hdc
  clear hrd hdc
  go_enter Tryd.func20, Tryd.ntmps20
  go_wp2_with (first | (go_at_call 38; refine HRD.out.mono ?_; rintro e1 w1 ⟨rfl, hR, hb1⟩; have F1 := Lib.hid ((pt.f2_new w 0 0 29).below hb1 (by omega)); have R1 := Lib.hid hR; have B1 := Lib.hid (((Below.refl w.heap.size w).alloc (Nat.le_refl _) _).trans (hb1.mono (by omega))); have q1 := hR.lt; clear hR hb1) | (go_at_call 37; refine (HDC.out _ R1.out).mono ?_; rintro e2 w2 ⟨rfl, hu2⟩; obtain ⟨_, c0, c1, f0, f1⟩ := f2_upd F1.out hu2 (by omega); have B2 := Lib.hid (oct.Upd.below B1.out hu2 (by omega) (by omega))))
  have HB := B2.out
  exact bodyPost_ret (v := .tuple #[.string T, .agg #[.int .i64 E, .int .i64 P]]) (by simp [results, Tryd.results20, go_sem, c0, c1]) rfl ⟨rfl, by repeat (first | (with_reducible exact HB) | (with_reducible exact Below.refl _ _) | (with_reducible refine Below.setCell ?_ (by simp) _) | (with_reducible refine Below.alloc ?_ (by simp; omega) _))⟩
/-- The two marks. -/
def bigMark (s : ByteArray) : Bool := Lib.hasPrefix s.data.toList [254, 255]
def littleMark (s : ByteArray) : Bool := Lib.hasPrefix s.data.toList [255, 254]
theorem Mark_any (s : ByteArray) (w : World) : Calls Tryd.prog 26 #[.string s] w fun e w' => e = .returned (.tuple #[.bool (bigMark s), .bool (bigMark s || littleMark s)]) ∧ w = w' := by
  have h1 : ∀ w2, Calls Tryd.prog 44 #[.string s, .string ⟨#[254, 255]⟩] w2 fun e w' => e = .returned (.bool (bigMark s)) ∧ w2 = w' := fun w2 => (Tryd.strings_HasPrefix s ⟨#[254, 255]⟩ w2).mono fun e w' ⟨h1, h2⟩ => ⟨h1, h2.symm⟩
  have h2 : ∀ w2, Calls Tryd.prog 44 #[.string s, .string ⟨#[255, 254]⟩] w2 fun e w' => e = .returned (.bool (littleMark s)) ∧ w2 = w' := fun w2 => (Tryd.strings_HasPrefix s ⟨#[255, 254]⟩ w2).mono fun e w' ⟨h1, h2⟩ => ⟨h1, h2.symm⟩
  generalize bigMark s = B at *
  generalize littleMark s = L at *
  cases B
  all_goals
    have H1 := Lib.hid h1; have H2 := Lib.hid h2
    clear h1 h2
    go_enter Tryd.func26, Tryd.ntmps26
    go_wp2_with (first | (go_at_call 44; with_reducible refine (H1.out _).mono ?_; rintro e1 w1 ⟨rfl, rfl⟩) | (go_at_call 44; with_reducible refine (H2.out _).mono ?_; rintro e2 w2 ⟨rfl, rfl⟩))
    go_ret2
    exact ⟨rfl, rfl⟩
theorem Marked_empty (w : World) : Calls Tryd.prog 27 #[.string ⟨#[]⟩] w fun e w' => e = .returned (.tuple #[.string ⟨#[]⟩, .agg #[.int .i64 0, .int .i64 0]]) ∧ Below w.heap.size w w' := by
  go_enter Tryd.func27, Tryd.ntmps27
  go_wp2
  exact bodyPost_ret (v := .tuple #[.string ⟨#[]⟩, .agg #[.int .i64 0, .int .i64 0]]) (by simp [results, Tryd.results27, go_sem]) rfl ⟨rfl, by repeat (first | (with_reducible exact Below.refl _ _) | (with_reducible refine Below.setCell ?_ (by simp) _) | (with_reducible refine Below.alloc ?_ (by simp) _))⟩
theorem str_nil {s : ByteArray} : s.data.toList = [] ↔ s.size = 0 := by
  have e : s.data.toList.length = s.size := by rw [Array.length_toList]; rfl
  rw [← e, List.length_eq_zero_iff]
theorem Marked_no (s : ByteArray) (w : World) (hs : s.size ≠ 0) (h1 : bigMark s = false) (h2 : littleMark s = false) : Calls Tryd.prog 27 #[.string s] w fun e w' => e = .returned (.tuple #[.string ⟨#[]⟩, .agg #[.int .i64 2, .int .i64 0]]) ∧ Below w.heap.size w w' := by
  have hm := fun w2 => Mark_any s w2
  rw [h1, h2, Bool.or_false] at hm
  have m1 : ¬ s.toList = [] := fun h => by rw [ByteArray.toList_eq] at h; exact hs (str_nil.1 h)
  have m2 : s.toList.isEmpty = false := by rw [Bool.eq_false_iff]; intro h; exact m1 (List.isEmpty_iff.1 h)
  have HM := Lib.hid hm
  clear hm h1 h2 hs
  go_enter Tryd.func27, Tryd.ntmps27
  go_wp2_with (first | (go_at_call 26; refine (HM.out _).mono ?_; rintro e1 w1 ⟨rfl, rfl⟩) | (go_at_call 45; refine (undec_any _ _).mono ?_; rintro e5 w5 ⟨rfl, hb5⟩; obtain ⟨_, c0, c1, f0, f1⟩ := (pt.f2_new w 0 0 29).below hb5 (by simp); have B5 := Lib.hid (((Below.refl w.heap.size w).alloc (Nat.le_refl _) (.cells #[.int .i64 0, .int .i64 0] 29)).trans (hb5.mono (by simp))); have q5 := hb5.size))
  have HB := B5.out
  exact bodyPost_ret (v := .tuple #[.string ⟨#[]⟩, .agg #[.int .i64 2, .int .i64 0]]) (by simp [results, Tryd.results27, go_sem, c0, c1]) rfl ⟨rfl, by repeat (first | (with_reducible exact HB) | (with_reducible exact Below.refl _ _) | (with_reducible refine Below.setCell ?_ (by simp) _) | (with_reducible refine Below.alloc ?_ (by simp; omega) _))⟩
set_option maxRecDepth 100000 in
theorem Marked_yes (s : ByteArray) (big : Bool) (w : World) (hs : s.size ≤ 8000) (hz : 2 ≤ s.size) (h1 : bigMark s = big) (h2 : (bigMark s || littleMark s) = true) : Calls Tryd.prog 27 #[.string s] w fun e w' => e = .returned (.tuple #[.string (wt (wscan (s.extract 2 s.size) big)), .agg #[.int .i64 (pt.fe (wscan (s.extract 2 s.size) big).2), .int .i64 (fb 2 (wscan (s.extract 2 s.size) big).2)]]) ∧ Below w.heap.size w w' := by
  have hm := fun w2 => Mark_any s w2
  rw [h2, h1] at hm
  have m1 : ¬ s.toList = [] := fun h => by rw [ByteArray.toList_eq] at h; have := str_nil.1 h; omega
  have m2 : s.toList.isEmpty = false := by rw [Bool.eq_false_iff]; intro h; exact m1 (List.isEmpty_iff.1 h)
  have hsl : ∀ wx, (Instr.slice 9 (.string s) (some (.int .i64 2)) none none).run Tryd.prog wx = .ok (.string (s.extract 2 s.size)) wx := fun wx => by
    rw [run_slice_string_l wx 9 s Tryd.underlying9 .i64 2 (by omega) (by omega)]; rfl
  have hsz : (s.extract 2 s.size).size ≤ 8000 := by rw [ByteArray.size_extract]; omega
  generalize s.extract 2 s.size = t at *
  have hrd := oct.inner_any t 2 (w.alloc (.cells #[.int .i64 0, .int .i64 0] 29))
  rw [World.size_alloc] at hrd
  have hdc := fun w2 h2 => decode_any t big (w.heap.size + 1) 2 w2 h2 hsz (by omega) (by omega)
  generalize wt (wscan t big) = T at *
  generalize pt.fe (wscan t big).2 = E at *
  generalize fb 2 (wscan t big).2 = P at *
  have HM := Lib.hid hm; have HRD := Lib.hid hrd; have HDC := Lib.hid hdc
  clear hm h1 h2 hs hz hrd hdc hsz
  go_enter Tryd.func27, Tryd.ntmps27
  go_wp2_with (first | (go_at_call 26; refine (HM.out _).mono ?_; rintro e1 w1 ⟨rfl, rfl⟩) | (go_at_call 46; refine HRD.out.mono ?_; rintro e1 w1 ⟨rfl, hR, hb1⟩; have F1 := Lib.hid ((pt.f2_new w 0 0 29).below hb1 (by omega)); have R1 := Lib.hid hR; have B1 := Lib.hid (((Below.refl w.heap.size w).alloc (Nat.le_refl _) _).trans (hb1.mono (by omega))); have q1 := hR.lt; clear hR hb1) | (go_at_call 37; refine (HDC.out _ R1.out).mono ?_; rintro e2 w2 ⟨rfl, hu2⟩; obtain ⟨_, c0, c1, f0, f1⟩ := f2_upd F1.out hu2 (by omega); have B2 := Lib.hid (oct.Upd.below B1.out hu2 (by omega) (by omega))))
  have HB := B2.out
  exact bodyPost_ret (v := .tuple #[.string T, .agg #[.int .i64 E, .int .i64 P]]) (by simp [results, Tryd.results27, go_sem, c0, c1]) rfl ⟨rfl, by repeat (first | (with_reducible exact HB) | (with_reducible exact Below.refl _ _) | (with_reducible refine Below.setCell ?_ (by simp) _) | (with_reducible refine Below.alloc ?_ (by simp; omega) _))⟩
end Go.Proofs.YtmogjimiiadmmaaDoor.wd
