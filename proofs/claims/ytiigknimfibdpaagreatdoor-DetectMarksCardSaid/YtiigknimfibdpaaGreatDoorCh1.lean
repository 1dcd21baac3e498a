/- The document's own answers of layer 9: signs: a contract. -/
import Derived.Test.YtiigknimfibdpaaGreatDoorZ19
import Derived.Test.YtiigknimfibdpaaGreatDoorZ15
namespace Go.Proofs.YtiigknimfibdpaaGreatDoor.ch
open Go.RowKit Go.Lib
set_option linter.unusedVariables false
theorem rows_valid : (wa.rowsL.all fun p => p == 0 || validRune (p : Int)) = true := by decide +kernel
theorem vr_of {p : Nat} (h : (p < 55296) ∨ (57343 < p ∧ p ≤ 1114111)) : validRune (p : Int) = true := by
  unfold validRune
  simp
  omega
theorem sgW_valid {l b : Nat} (hl : l < 256) (hb : b < 256) (h : wa.sgW l b ≠ 0) : validRune ((wa.sgW l b : Nat) : Int) = true := by
  have hby := wa.by_sg hl hb h
  unfold wa.byW at hby
  by_cases q : 44032 ≤ wa.sgW l b ∧ wa.sgW l b ≤ 55203
  · exact vr_of (.inl (by omega))
  · rw [if_neg q, if_neg h] at hby
    cases hr : wa.rc (wa.sgW l b) with
    | none => rw [hr] at hby; cases hby
    | some j =>
      obtain ⟨_, j1, j2⟩ := wa.rcF_some _ _ _ _ hr
      have h1 := List.all_eq_true.1 rows_valid (wa.rowJ j) (List.mem_of_getElem? (wa.rowsL_at (by omega)))
      rw [j2] at h1
      simpa [h] using h1
theorem sgJ_valid {c : Nat} (hc : c < 65536) (h : jo.sg c ≠ 0) : validRune ((jo.sg c : Nat) : Int) = true := by
  have := (jo.sg_has hc h).1
  unfold jo.hasJ at this
  exact vr_of (.inl (by omega))
theorem txt_one (p : Int) : pt.txt [p] = strOfNums (encodeRuneZ p) := by unfold pt.txt pt.nums; simp
/-- The text of two bytes. -/
def s2T (c : Int) (l b : Nat) : ByteArray := pt.txt ((sg2 c l b).map Int.ofNat)
def S2P (c : Int) (l b : Nat) (w : World) : Ending → World → Prop := fun e w' => e = .returned (.string (s2T c l b)) ∧ Below w.heap.size w w'
theorem s2P {c : Int} {l b : Nat} {w w' : World} {v : ByteArray} (h : s2T c l b = v) (hb : Below w.heap.size w w') : S2P c l b w (.returned (.string v)) w' := ⟨by rw [h], hb⟩
set_option maxRecDepth 100000 in
set_option maxHeartbeats 2000000 in
theorem signs_any (c : Int) (l b : Nat) (w : World) (hc : c = 4 ∨ c = 5 ∨ c = 6) (hl : l < 256) (hb : b < 256) : Calls Tryz.prog 36 #[.int .i64 c, .int .i64 l, .int .i64 b] w (S2P c l b w) := by
  obtain ⟨PP, hPP⟩ : ∃ PP, PP = S2P c l b w := ⟨_, rfl⟩
  rw [← hPP]
  have HPP := Lib.hid hPP
  clear hPP
  have g0 : (0 : Int) ≤ (l : Int) := by omega
  have g1 : (l : Int) < 256 := by omega
  have g2 : (0 : Int) ≤ (b : Int) := by omega
  have g3 : (b : Int) < 256 := by omega
  rcases hc with rfl | rfl | rfl
  · have HS : Hid (∀ W, Calls Tryz.prog 58 #[.int .i64 l, .int .i64 b] W fun e w' => e = .returned (.int .i32 ((wa.sgW l b : Nat) : Int)) ∧ Below W.heap.size W w') := Lib.hid (fun W => wa.sgn_any l b W hl hb)
    by_cases hz : wa.sgW l b = 0
    · have HV : Hid (s2T 4 l b = ⟨#[]⟩) := Lib.hid (by unfold s2T sg2; rw [if_pos rfl, if_pos hz]; rfl)
      rw [hz] at HS
      clear hz
      go_enter Tryz.func36, Tryz.ntmps36
      go_wp2_with (go_at_call 58; refine (HS.out _).mono ?_; rintro e1 w1 ⟨rfl, hb1⟩; have B1 := Lib.hid hb1; clear hb1)
      rw [HPP.out]
      exact s2P HV.out B1.out
    · have HV : Hid (s2T 4 l b = strOfNums (encodeRuneZ ((wa.sgW l b : Nat) : Int))) := Lib.hid (by unfold s2T sg2; rw [if_pos rfl, if_neg hz]; exact txt_one _)
      have HB := Lib.hid (fun W => pt.bytes_any ((wa.sgW l b : Nat) : Int) W (sgW_valid hl hb hz))
      have hz2 : ¬ ((wa.sgW l b : Nat) : Int) = 0 := by omega
      generalize ((wa.sgW l b : Nat) : Int) = S at *
      clear hz
      go_enter Tryz.func36, Tryz.ntmps36
      go_wp2_with (first | (go_at_call 58; refine (HS.out _).mono ?_; rintro e1 w1 ⟨rfl, hb1⟩; have B1 := Lib.hid hb1; clear hb1) | (go_at_call 54; refine (HB.out _).mono ?_; rintro e2 w2 ⟨rfl, hb2⟩; have B2 := Lib.hid (B1.out.trans (hb2.mono B1.out.size)); clear hb2))
      rw [HPP.out]
      exact s2P HV.out B2.out
  · have hlb : l * 256 + b < 65536 := by omega
    have HS : Hid (∀ W, Calls Tryz.prog 59 #[.int .i64 ((l : Int) * 256 + (b : Int))] W fun e w' => e = .returned (.int .i32 ((jo.sg (l * 256 + b) : Nat) : Int)) ∧ Below W.heap.size W w') := Lib.hid (fun W => by
      have := jo.refsign_any (l * 256 + b) W hlb
      rwa [show ((l * 256 + b : Nat) : Int) = (l : Int) * 256 + (b : Int) by omega] at this)
    by_cases hz : jo.sg (l * 256 + b) = 0
    · have HV : Hid (s2T 5 l b = ⟨#[]⟩) := Lib.hid (by unfold s2T sg2; rw [if_neg (by decide), if_pos rfl, if_pos hz]; rfl)
      rw [hz] at HS
      clear hz
      go_enter Tryz.func36, Tryz.ntmps36
      go_wp2_with (go_at_call 59; refine (HS.out _).mono ?_; rintro e1 w1 ⟨rfl, hb1⟩; have B1 := Lib.hid hb1; clear hb1)
      rw [HPP.out]
      exact s2P HV.out B1.out
    · have HV : Hid (s2T 5 l b = strOfNums (encodeRuneZ ((jo.sg (l * 256 + b) : Nat) : Int))) := Lib.hid (by unfold s2T sg2; rw [if_neg (by decide), if_pos rfl, if_neg hz]; exact txt_one _)
      have HB := Lib.hid (fun W => pt.bytes_any ((jo.sg (l * 256 + b) : Nat) : Int) W (sgJ_valid hlb hz))
      have hz2 : ¬ ((jo.sg (l * 256 + b) : Nat) : Int) = 0 := by omega
      generalize ((jo.sg (l * 256 + b) : Nat) : Int) = S at *
      clear hz
      go_enter Tryz.func36, Tryz.ntmps36
      go_wp2_with (first | (go_at_call 59; refine (HS.out _).mono ?_; rintro e1 w1 ⟨rfl, hb1⟩; have B1 := Lib.hid hb1; clear hb1) | (go_at_call 54; refine (HB.out _).mono ?_; rintro e2 w2 ⟨rfl, hb2⟩; have B2 := Lib.hid (B1.out.trans (hb2.mono B1.out.size)); clear hb2))
      rw [HPP.out]
      exact s2P HV.out B2.out
  · have HS : Hid (∀ W, Calls Tryz.prog 57 #[.int .i64 l, .int .i64 b] W fun e w' => e = .returned (.string (bg.sgT l b)) ∧ Below W.heap.size W w') := Lib.hid (fun W => bg.signs_any l b W hl hb)
    have HV : Hid (s2T 6 l b = bg.sgT l b) := Lib.hid (by unfold s2T sg2; rw [if_neg (by decide), if_neg (by decide)]; rfl)
    generalize bg.sgT l b = T at *
    go_enter Tryz.func36, Tryz.ntmps36
    go_wp2_with (go_at_call 57; refine (HS.out _).mono ?_; rintro e1 w1 ⟨rfl, hb1⟩; have B1 := Lib.hid hb1; clear hb1)
    rw [HPP.out]
    exact s2P HV.out B1.out
end Go.Proofs.YtiigknimfibdpaaGreatDoor.ch
