/- The document's own answers of layer 6: Sign, Code: contracts. -/
import Derived.Test.YtiamabeapomabaaDoorJo2
namespace Go.Proofs.YtiamabeapomabaaDoor.jo
open Go.RowKit Go.Lib
set_option linter.unusedVariables false
theorem med_cases (c : Nat) (h : c < 32) : med c = 98 ∨ med c = 99 ∨ med c ≤ 20 := by
  have : ∀ c < 32, med c = 98 ∨ med c = 99 ∨ med c ≤ 20 := by decide
  exact this c h
theorem fin_cases (c : Nat) (h : c < 32) : fin c = 98 ∨ fin c ≤ 27 := by
  have : ∀ c < 32, fin c = 98 ∨ fin c ≤ 27 := by decide
  exact this c h
/-- The sign of sixteen bits; 0: there is none. -/
def sg (c : Nat) : Nat := if c < 32768 then 0 else sgn c
theorem tdiv_nat (a b : Nat) : ((a : Int)).tdiv (b : Int) = ((a / b : Nat) : Int) := rfl
/-- The document's Sign, told by the three codes. -/
def sgP (I m f : Nat) : Nat := if I = 0 ∨ 20 < I ∨ m = 98 ∨ f = 98 then 0
    else if 2 ≤ I ∧ m < 98 then 44032 + ((I - 2) * 21 + m) * 28 + f
    else if I = 1 ∧ m < 98 ∧ f = 0 then 12623 + m
    else if 2 ≤ I ∧ m = 99 ∧ f = 0 then alo (I - 2)
    else if I = 1 ∧ m = 99 ∧ 0 < f then alo (100 + f)
    else 0
theorem sgn_is (c : Nat) : sgn c = sgP (c / 1024 % 32) (med (c / 32 % 32)) (fin (c % 32)) := rfl
/-- A number: -1: none; -2: it isn't there. -/
def nI (m : Nat) : Int := if m = 98 then -2 else if m = 99 then -1 else m
theorem nI_le {m : Nat} (h : m ≤ 27) : nI m = m := by unfold nI; rw [if_neg (by omega), if_neg (by omega)]
def MedC (c : Int) (mi : Int) : Prop := ∀ w2, Calls Tryd.prog 16 #[.int .i64 (c / 32 % 32)] w2 fun e w' => e = .returned (.int .i64 mi) ∧ Below w2.heap.size w2 w'
def FinC (c : Int) (fi : Int) : Prop := ∀ w2, Calls Tryd.prog 17 #[.int .i64 (c % 32)] w2 fun e w' => e = .returned (.int .i64 fi) ∧ Below w2.heap.size w2 w'
def Post6 (S : Nat) (w : World) : Ending → World → Prop := fun e w' => e = .returned (.int .i32 (S : Int)) ∧ Below w.heap.size w w'
theorem post6 {S : Nat} {w w' : World} {v : Int} (h : (S : Int) = v) (hb : Below w.heap.size w w') : Post6 S w (.returned (.int .i32 v)) w' := ⟨by rw [h], hb⟩
theorem ans6 {S T : Nat} {v : Int} (h : Hid (S = T)) (h2 : (T : Int) = v) : (S : Int) = v := by rw [h.out]; exact h2
set_option maxRecDepth 100000 in
set_option maxHeartbeats 8000000 in
theorem rs_core (c : Int) (I m f : Nat) (w : World) (g0 : 32768 ≤ c) (g1 : c < 65536) (e1 : c / 1024 % 32 = (I : Int)) (hI : I < 32) (m1 : m = 98 ∨ m = 99 ∨ m ≤ 20) (f1 : f = 98 ∨ f ≤ 27)
    (HM : Hid (MedC c (nI m))) (HF : Hid (FinC c (nI f))) : Calls Tryd.prog 8 #[.int .i64 c] w (Post6 (sgP I m f) w) := by
  obtain ⟨S, hS⟩ : ∃ S, S = sgP I m f := ⟨_, rfl⟩
  rw [← hS]
  have HS := Lib.hid hS
  have HA := Lib.hid (fun p w2 => alone_any p w2)
  clear hS
  have hI0 : I = 0 ∨ I = 1 ∨ (∃ k, I = k + 2 ∧ k ≤ 18) ∨ 20 < I := by
    by_cases h : I < 2
    · omega
    · by_cases h2 : 20 < I
      · omega
      · exact .inr (.inr (.inl ⟨I - 2, by omega, by omega⟩))
  have HH := Lib.hid (⟨m1, f1⟩ : (m = 98 ∨ m = 99 ∨ m ≤ 20) ∧ (f = 98 ∨ f ≤ 27))
  clear m1 f1
  have hI2 := hI
  clear hI
  rcases hI0 with rfl | rfl | ⟨k, rfl, hk⟩ | hI0
  · replace e1 : c / 1024 % 32 = 0 := e1
    go_enter Tryd.func8, Tryd.ntmps8
    go_wp2_with (first | (go_at_call 16; refine (HM.out _).mono ?_; rintro e2 w2 ⟨rfl, hb2⟩) | (go_at_call 17; refine (HF.out _).mono ?_; rintro e3 w3 ⟨rfl, hb3⟩))
    go_ret
    exact post6 (ans6 HS (by simp [sgP])) (hb2.trans (hb3.mono hb2.size))
  · obtain ⟨m1, f1⟩ := HH.out
    replace e1 : c / 1024 % 32 = 1 := e1
    rcases m1 with rfl | rfl | hm
    · clear f1
      replace HM : Hid (MedC c (-2)) := HM
      go_enter Tryd.func8, Tryd.ntmps8
      go_wp2_with (first | (go_at_call 16; refine (HM.out _).mono ?_; rintro e2 w2 ⟨rfl, hb2⟩) | (go_at_call 17; refine (HF.out _).mono ?_; rintro e3 w3 ⟨rfl, hb3⟩))
      go_ret
      exact post6 (ans6 HS (by simp [sgP])) (hb2.trans (hb3.mono hb2.size))
    · replace HM : Hid (MedC c (-1)) := HM
      by_cases hf0 : f = 0
      · subst hf0
        replace HF : Hid (FinC c 0) := HF
        go_enter Tryd.func8, Tryd.ntmps8
        go_wp2_with (first | (go_at_call 16; refine (HM.out _).mono ?_; rintro e2 w2 ⟨rfl, hb2⟩) | (go_at_call 17; refine (HF.out _).mono ?_; rintro e3 w3 ⟨rfl, hb3⟩))
        go_ret
        exact post6 (ans6 HS (by simp [sgP])) (hb2.trans (hb3.mono hb2.size))
      by_cases hf8 : f = 98
      · subst hf8
        replace HF : Hid (FinC c (-2)) := HF
        go_enter Tryd.func8, Tryd.ntmps8
        go_wp2_with (first | (go_at_call 16; refine (HM.out _).mono ?_; rintro e2 w2 ⟨rfl, hb2⟩) | (go_at_call 17; refine (HF.out _).mono ?_; rintro e3 w3 ⟨rfl, hb3⟩))
        go_ret
        exact post6 (ans6 HS (by simp [sgP])) (hb2.trans (hb3.mono hb2.size))
      have hf : f ≤ 27 := by omega
      rw [nI_le hf] at HF
      have p0 : (0 : Int) < (f : Int) := by omega
      have p1 : (f : Int) ≤ 27 := by omega
      have p2 : ((f : Int) == -2) = false := beq_eq_false_iff_ne.2 (by omega)
      have p3 : ((f : Int) == 0) = false := beq_eq_false_iff_ne.2 (by omega)
      · have q1 : ((100 + f : Nat) : Int) = 100 + (f : Int) := by omega
        go_enter Tryd.func8, Tryd.ntmps8
        go_wp2_with (first | (go_at_call 16; refine (HM.out _).mono ?_; rintro e2 w2 ⟨rfl, hb2⟩) | (go_at_call 17; refine (HF.out _).mono ?_; rintro e3 w3 ⟨rfl, hb3⟩) | (go_at_call 18; refine (HA.out (100 + f) _).mono ?_; rintro e4 w4 ⟨rfl, hb4⟩))
        go_ret
        exact post6 (ans6 HS (by unfold sgP; rw [if_neg (by omega), if_neg (by omega), if_neg (by omega), if_neg (by omega), if_pos (by omega)])) ((hb2.trans (hb3.mono hb2.size)).trans (hb4.mono (hb2.trans (hb3.mono hb2.size)).size))
    · rw [nI_le (by omega)] at HM
      have n0 : (0 : Int) ≤ (m : Int) := by omega
      have n1 : (m : Int) ≤ 20 := by omega
      have n2 : ((m : Int) == -2) = false := beq_eq_false_iff_ne.2 (by omega)
      by_cases hf0 : f = 0
      · subst hf0
        replace HF : Hid (FinC c 0) := HF
        go_enter Tryd.func8, Tryd.ntmps8
        go_wp2_with (first | (go_at_call 16; refine (HM.out _).mono ?_; rintro e2 w2 ⟨rfl, hb2⟩) | (go_at_call 17; refine (HF.out _).mono ?_; rintro e3 w3 ⟨rfl, hb3⟩))
        go_ret
        exact post6 (ans6 HS (by unfold sgP; rw [if_neg (by simp; omega), if_neg (by omega), if_pos (by omega)]; omega)) (hb2.trans (hb3.mono hb2.size))
      by_cases hf8 : f = 98
      · subst hf8
        replace HF : Hid (FinC c (-2)) := HF
        go_enter Tryd.func8, Tryd.ntmps8
        go_wp2_with (first | (go_at_call 16; refine (HM.out _).mono ?_; rintro e2 w2 ⟨rfl, hb2⟩) | (go_at_call 17; refine (HF.out _).mono ?_; rintro e3 w3 ⟨rfl, hb3⟩))
        go_ret
        exact post6 (ans6 HS (by simp [sgP])) (hb2.trans (hb3.mono hb2.size))
      have hf : f ≤ 27 := by omega
      rw [nI_le hf] at HF
      have p0 : (0 : Int) < (f : Int) := by omega
      have p1 : (f : Int) ≤ 27 := by omega
      have p2 : ((f : Int) == -2) = false := beq_eq_false_iff_ne.2 (by omega)
      have p3 : ((f : Int) == 0) = false := beq_eq_false_iff_ne.2 (by omega)
      · go_enter Tryd.func8, Tryd.ntmps8
        go_wp2_with (first | (go_at_call 16; refine (HM.out _).mono ?_; rintro e2 w2 ⟨rfl, hb2⟩) | (go_at_call 17; refine (HF.out _).mono ?_; rintro e3 w3 ⟨rfl, hb3⟩))
        go_ret
        exact post6 (ans6 HS (by unfold sgP; rw [if_neg (by omega), if_neg (by omega), if_neg (by omega), if_neg (by omega), if_neg (by omega)]; rfl)) (hb2.trans (hb3.mono hb2.size))
  · obtain ⟨m1, f1⟩ := HH.out
    replace e1 : c / 1024 % 32 = (k : Int) + 2 := by rw [e1]; omega
    have k0 : (0 : Int) ≤ (k : Int) := by omega
    have k1 : (k : Int) ≤ 18 := by omega
    rcases m1 with rfl | rfl | hm
    · clear f1
      replace HM : Hid (MedC c (-2)) := HM
      go_enter Tryd.func8, Tryd.ntmps8
      go_wp2_with (first | (go_at_call 16; refine (HM.out _).mono ?_; rintro e2 w2 ⟨rfl, hb2⟩) | (go_at_call 17; refine (HF.out _).mono ?_; rintro e3 w3 ⟨rfl, hb3⟩))
      go_ret
      exact post6 (ans6 HS (by simp [sgP])) (hb2.trans (hb3.mono hb2.size))
    · replace HM : Hid (MedC c (-1)) := HM
      by_cases hf0 : f = 0
      · subst hf0
        replace HF : Hid (FinC c 0) := HF
        go_enter Tryd.func8, Tryd.ntmps8
        go_wp2_with (first | (go_at_call 16; refine (HM.out _).mono ?_; rintro e2 w2 ⟨rfl, hb2⟩) | (go_at_call 17; refine (HF.out _).mono ?_; rintro e3 w3 ⟨rfl, hb3⟩) | (go_at_call 18; refine (HA.out k _).mono ?_; rintro e4 w4 ⟨rfl, hb4⟩))
        go_ret
        exact post6 (ans6 HS (by unfold sgP; rw [if_neg (by omega), if_neg (by omega), if_neg (by omega), if_pos (by omega), Nat.add_sub_cancel])) ((hb2.trans (hb3.mono hb2.size)).trans (hb4.mono (hb2.trans (hb3.mono hb2.size)).size))
      by_cases hf8 : f = 98
      · subst hf8
        replace HF : Hid (FinC c (-2)) := HF
        go_enter Tryd.func8, Tryd.ntmps8
        go_wp2_with (first | (go_at_call 16; refine (HM.out _).mono ?_; rintro e2 w2 ⟨rfl, hb2⟩) | (go_at_call 17; refine (HF.out _).mono ?_; rintro e3 w3 ⟨rfl, hb3⟩))
        go_ret
        exact post6 (ans6 HS (by simp [sgP])) (hb2.trans (hb3.mono hb2.size))
      have hf : f ≤ 27 := by omega
      rw [nI_le hf] at HF
      have p0 : (0 : Int) < (f : Int) := by omega
      have p1 : (f : Int) ≤ 27 := by omega
      have p2 : ((f : Int) == -2) = false := beq_eq_false_iff_ne.2 (by omega)
      have p3 : ((f : Int) == 0) = false := beq_eq_false_iff_ne.2 (by omega)
      · go_enter Tryd.func8, Tryd.ntmps8
        go_wp2_with (first | (go_at_call 16; refine (HM.out _).mono ?_; rintro e2 w2 ⟨rfl, hb2⟩) | (go_at_call 17; refine (HF.out _).mono ?_; rintro e3 w3 ⟨rfl, hb3⟩))
        go_ret
        exact post6 (ans6 HS (by unfold sgP; rw [if_neg (by omega), if_neg (by omega), if_neg (by omega), if_neg (by omega), if_neg (by omega)]; rfl)) (hb2.trans (hb3.mono hb2.size))
    · rw [nI_le (by omega)] at HM
      have n0 : (0 : Int) ≤ (m : Int) := by omega
      have n1 : (m : Int) ≤ 20 := by omega
      have n2 : ((m : Int) == -2) = false := beq_eq_false_iff_ne.2 (by omega)
      by_cases hf0 : f = 0
      · subst hf0
        replace HF : Hid (FinC c 0) := HF
        go_enter Tryd.func8, Tryd.ntmps8
        go_wp2_with (first | (go_at_call 16; refine (HM.out _).mono ?_; rintro e2 w2 ⟨rfl, hb2⟩) | (go_at_call 17; refine (HF.out _).mono ?_; rintro e3 w3 ⟨rfl, hb3⟩))
        go_ret
        exact post6 (ans6 HS (by unfold sgP; rw [if_neg (by omega), if_pos (by omega)]; omega)) (hb2.trans (hb3.mono hb2.size))
      by_cases hf8 : f = 98
      · subst hf8
        replace HF : Hid (FinC c (-2)) := HF
        go_enter Tryd.func8, Tryd.ntmps8
        go_wp2_with (first | (go_at_call 16; refine (HM.out _).mono ?_; rintro e2 w2 ⟨rfl, hb2⟩) | (go_at_call 17; refine (HF.out _).mono ?_; rintro e3 w3 ⟨rfl, hb3⟩))
        go_ret
        exact post6 (ans6 HS (by simp [sgP])) (hb2.trans (hb3.mono hb2.size))
      have hf : f ≤ 27 := by omega
      rw [nI_le hf] at HF
      have p0 : (0 : Int) < (f : Int) := by omega
      have p1 : (f : Int) ≤ 27 := by omega
      have p2 : ((f : Int) == -2) = false := beq_eq_false_iff_ne.2 (by omega)
      have p3 : ((f : Int) == 0) = false := beq_eq_false_iff_ne.2 (by omega)
      · go_enter Tryd.func8, Tryd.ntmps8
        go_wp2_with (first | (go_at_call 16; refine (HM.out _).mono ?_; rintro e2 w2 ⟨rfl, hb2⟩) | (go_at_call 17; refine (HF.out _).mono ?_; rintro e3 w3 ⟨rfl, hb3⟩))
        go_ret
        exact post6 (ans6 HS (by unfold sgP; rw [if_neg (by omega), if_pos (by omega)]; omega)) (hb2.trans (hb3.mono hb2.size))
  · have j0 : (20 : Int) < (I : Int) := by omega
    have j1 : (I : Int) < 32 := by omega
    go_enter Tryd.func8, Tryd.ntmps8
    go_wp2_with (first | (go_at_call 16; refine (HM.out _).mono ?_; rintro e2 w2 ⟨rfl, hb2⟩) | (go_at_call 17; refine (HF.out _).mono ?_; rintro e3 w3 ⟨rfl, hb3⟩))
    go_ret
    exact post6 (ans6 HS (by unfold sgP; rw [if_pos (by omega)]; rfl)) (hb2.trans (hb3.mono hb2.size))
theorem refsign_any (c : Nat) (w : World) (hc : c < 65536) : Calls Tryd.prog 8 #[.int .i64 c] w fun e w' => e = .returned (.int .i32 ((sg c : Nat) : Int)) ∧ Below w.heap.size w w' := by
  unfold sg
  by_cases h0 : c < 32768
  · rw [if_pos h0]
    generalize hC : (c : Int) = C
    have g0 : C < 32768 := by omega
    clear hC h0 hc
    go_enter Tryd.func8, Tryd.ntmps8
    go_wp2
    go_ret
    exact ⟨rfl, Below.refl _ _⟩
  · rw [if_neg h0, sgn_is]
    have e2 : ((c / 32 % 32 : Nat) : Int) = (c : Int) / 32 % 32 := by omega
    have e3 : ((c % 32 : Nat) : Int) = (c : Int) % 32 := by omega
    refine rs_core c (c / 1024 % 32) (med (c / 32 % 32)) (fin (c % 32)) w (by omega) (by omega) (by omega) (by omega) (med_cases _ (by omega)) (fin_cases _ (by omega)) (Lib.hid fun w2 => ?_) (Lib.hid fun w2 => ?_)
    · have h := medial_any (c / 32 % 32) w2 (by omega)
      rw [e2] at h
      exact h
    · have h := final_any (c % 32) w2 (by omega)
      rw [e3] at h
      have h2 : finI (c % 32) = nI (fin (c % 32)) := by
        unfold finI nI
        rcases fin_cases (c % 32) (by omega) with h | h
        · rw [h]; rfl
        · rw [if_neg (by omega), if_neg (by omega), if_neg (by omega)]
      rw [← h2]
      exact h
end Go.Proofs.YtiamabeapomabaaDoor.jo
