/- The document's own answers of layer 7: Sign, RowCode: contracts. -/
import Derived.Test.YtgjndekgnkjknaaDoorWa3
namespace Go.Proofs.YtgjndekgnkjknaaDoor.wa
open Go.RowKit Go.Lib
set_option linter.unusedVariables false
def SgPost (w : World) (l b : Nat) : Ending → World → Prop := fun e w' => e = .returned (.int .i32 ((sgW l b : Nat) : Int)) ∧ Below w.heap.size w w'
theorem sgPost {w w' : World} {l b : Nat} {v : Int} (h : ((sgW l b : Nat) : Int) = v) (hb : Below w.heap.size w w') : SgPost w l b (.returned (.int .i32 v)) w' := ⟨by rw [h], hb⟩
def KtC (k : Int) (b : Bool) (V : Int) : Prop := ∀ w2, Calls Tryd.prog 13 #[.int .i64 k, .bool b] w2 fun e w' => e = .returned (.int .i32 V) ∧ w2 = w'
theorem ktC (k : Int) (q : Nat) (b : Bool) (h : k = (q : Int)) (hk : q ≤ 1000000) : Hid (KtC k b ((kth q b : Nat) : Int)) := Lib.hid (fun w2 => by
  subst h
  have := kth_any q b w2 (by omega)
  rw [kthI_nat] at this
  exact this)
set_option maxRecDepth 100000 in
set_option maxHeartbeats 4000000 in
theorem sgn_any (l b : Nat) (w : World) (hl : l < 256) (hb : b < 256) : Calls Tryd.prog 15 #[.int .i64 l, .int .i64 b] w (SgPost w l b) := by
  have HS := Lib.hid (fun w2 => second_any b w2 hb)
  have l0 : (0 : Int) ≤ (l : Int) := by omega
  have l1 : (l : Int) < 256 := by omega
  have b0 : (0 : Int) ≤ (b : Int) := by omega
  have b1 : (b : Int) < 256 := by omega
  cases hs : sec b with
  | none =>
    have e : secI b = -1 := by unfold secI; rw [hs]
    rw [e] at HS
    have HV : Hid (((sgW l b : Nat) : Int) = 0) := Lib.hid (by unfold sgW; rw [hs]; rfl)
    clear hs e
    go_enter Tryd.func15, Tryd.ntmps15
    go_wp2_with (go_at_call 32; refine (HS.out _).mono ?_; rintro e2 w2 ⟨rfl, rfl⟩)
    go_ret
    exact sgPost HV.out (Below.refl _ _)
  | some t =>
    have e : secI b = (t : Int) := by unfold secI; rw [hs]
    rw [e] at HS
    have ht := (sec_back hs).2.1
    have t0 : (0 : Int) ≤ (t : Int) := by omega
    have t1 : (t : Int) < 178 := by omega
    have hV : sgW l b = if l < 129 ∨ 254 < l then 0 else if l < 161 then kth ((l - 129) * 178 + t) false
      else if b < 161 then kth (5696 + (l - 161) * 84 + t) false
      else if 176 ≤ l ∧ l ≤ 200 then kth ((l - 176) * 94 + (b - 161)) true else row l b := by unfold sgW; rw [hs]
    have hb5 : b ≤ 254 := by
      by_cases q : b ≤ 254
      · exact q
      · exfalso; unfold sec at hs; rw [if_neg (by omega), if_neg (by omega), if_neg (by omega)] at hs; cases hs
    clear hs e
    by_cases h1 : l < 129
    · have HV : Hid (((sgW l b : Nat) : Int) = 0) := Lib.hid (by rw [hV, if_pos (.inl h1)]; rfl)
      have g1 : (l : Int) < 129 := by omega
      clear hV h1
      go_enter Tryd.func15, Tryd.ntmps15
      go_wp2_with (go_at_call 32; refine (HS.out _).mono ?_; rintro e2 w2 ⟨rfl, rfl⟩)
      go_ret
      exact sgPost HV.out (Below.refl _ _)
    by_cases h2 : 254 < l
    · have HV : Hid (((sgW l b : Nat) : Int) = 0) := Lib.hid (by rw [hV, if_pos (.inr h2)]; rfl)
      have g1 : ¬ (l : Int) < 129 := by omega
      have g2 : 254 < (l : Int) := by omega
      clear hV h1 h2
      go_enter Tryd.func15, Tryd.ntmps15
      go_wp2_with (go_at_call 32; refine (HS.out _).mono ?_; rintro e2 w2 ⟨rfl, rfl⟩)
      go_ret
      exact sgPost HV.out (Below.refl _ _)
    rw [if_neg (by omega)] at hV
    have g1 : ¬ (l : Int) < 129 := by omega
    have g2 : ¬ 254 < (l : Int) := by omega
    by_cases h3 : l < 161
    · have HK := ktC (((l : Int) - 129) * 178 + (t : Int)) ((l - 129) * 178 + t) false (by omega) (by omega)
      have HV : Hid (((sgW l b : Nat) : Int) = ((kth ((l - 129) * 178 + t) false : Nat) : Int)) := Lib.hid (by rw [hV, if_pos h3])
      generalize ((kth ((l - 129) * 178 + t) false : Nat) : Int) = V at *
      have g3 : (l : Int) < 161 := by omega
      clear hV h1 h2 h3
      go_enter Tryd.func15, Tryd.ntmps15
      go_wp2_with (first | (go_at_call 32; refine (HS.out _).mono ?_; rintro e2 w2 ⟨rfl, rfl⟩) | (go_at_call 13; refine (HK.out _).mono ?_; rintro e2 w2 ⟨rfl, rfl⟩))
      go_ret
      exact sgPost HV.out (Below.refl _ _)
    rw [if_neg h3] at hV
    have g3 : ¬ (l : Int) < 161 := by omega
    by_cases h4 : b < 161
    · have HK := ktC (5696 + ((l : Int) - 161) * 84 + (t : Int)) (5696 + (l - 161) * 84 + t) false (by omega) (by omega)
      have HV : Hid (((sgW l b : Nat) : Int) = ((kth (5696 + (l - 161) * 84 + t) false : Nat) : Int)) := Lib.hid (by rw [hV, if_pos h4])
      generalize ((kth (5696 + (l - 161) * 84 + t) false : Nat) : Int) = V at *
      have g4 : (b : Int) < 161 := by omega
      clear hV h1 h2 h3 h4
      go_enter Tryd.func15, Tryd.ntmps15
      go_wp2_with (first | (go_at_call 32; refine (HS.out _).mono ?_; rintro e2 w2 ⟨rfl, rfl⟩) | (go_at_call 13; refine (HK.out _).mono ?_; rintro e2 w2 ⟨rfl, rfl⟩))
      go_ret
      exact sgPost HV.out (Below.refl _ _)
    rw [if_neg h4] at hV
    have g4 : ¬ (b : Int) < 161 := by omega
    by_cases h5 : 176 ≤ l ∧ l ≤ 200
    · have HK := ktC (((l : Int) - 176) * 94 + (b : Int) - 161) ((l - 176) * 94 + (b - 161)) true (by omega) (by omega)
      have HV : Hid (((sgW l b : Nat) : Int) = ((kth ((l - 176) * 94 + (b - 161)) true : Nat) : Int)) := Lib.hid (by rw [hV, if_pos h5])
      generalize ((kth ((l - 176) * 94 + (b - 161)) true : Nat) : Int) = V at *
      have g5 : 176 ≤ (l : Int) := by omega
      have g6 : (l : Int) ≤ 200 := by omega
      clear hV h1 h2 h3 h4 h5
      go_enter Tryd.func15, Tryd.ntmps15
      go_wp2_with (first | (go_at_call 32; refine (HS.out _).mono ?_; rintro e2 w2 ⟨rfl, rfl⟩) | (go_at_call 13; refine (HK.out _).mono ?_; rintro e2 w2 ⟨rfl, rfl⟩))
      go_ret
      exact sgPost HV.out (Below.refl _ _)
    · rw [if_neg h5] at hV
      have HV : Hid (((sgW l b : Nat) : Int) = ((row l b : Nat) : Int)) := Lib.hid (by rw [hV])
      have HR := Lib.hid (fun w2 => row_any l b w2 (by omega) hb5)
      generalize ((row l b : Nat) : Int) = V at *
      by_cases h6 : 176 ≤ l
      · have g5 : 176 ≤ (l : Int) := by omega
        have g6 : ¬ (l : Int) ≤ 200 := by omega
        clear hV h1 h2 h3 h4 h5 h6
        go_enter Tryd.func15, Tryd.ntmps15
        go_wp2_with (first | (go_at_call 32; refine (HS.out _).mono ?_; rintro e2 w2 ⟨rfl, rfl⟩) | (go_at_call 33; refine (HR.out _).mono ?_; rintro e2 w2 ⟨rfl, hb2⟩))
        go_ret
        exact sgPost HV.out hb2
      · have g5 : ¬ 176 ≤ (l : Int) := by omega
        clear hV h1 h2 h3 h4 h5 h6
        go_enter Tryd.func15, Tryd.ntmps15
        go_wp2_with (first | (go_at_call 32; refine (HS.out _).mono ?_; rintro e2 w2 ⟨rfl, rfl⟩) | (go_at_call 33; refine (HR.out _).mono ?_; rintro e2 w2 ⟨rfl, hb2⟩))
        go_ret
        exact sgPost HV.out hb2
end Go.Proofs.YtgjndekgnkjknaaDoor.wa
