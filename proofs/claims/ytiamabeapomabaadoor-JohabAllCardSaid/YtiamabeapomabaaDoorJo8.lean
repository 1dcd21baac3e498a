/- The landed johab: sign of parts, Sign: contracts. -/
import Derived.Test.YtiamabeapomabaaDoorJo7
namespace Go.Proofs.YtiamabeapomabaaDoor.jo
open Go.RowKit Go.Lib
set_option linter.unusedVariables false
theorem cons_any (I f : Nat) (a : Int) (w : World) (ha : a = (I : Int) - 2) (hI : 1 ≤ I ∧ I ≤ 20) (hf : f ≤ 27) : Calls Tryd.prog 25 #[.agg #[.int .i64 a, .int .i64 (-1), .int .i64 f]] w fun e w' => e = .returned (sV (sgP I 99 f)) ∧ Below w.heap.size w w' := by
  by_cases h1 : I = 1
  · subst h1
    obtain rfl : a = -1 := by omega
    by_cases h2 : f = 0
    · subst h2
      exact cons_zero (-1) 0 (-1) w (.inl ⟨rfl, rfl⟩)
    · have e : sgP 1 99 f = alo (100 + f) := by unfold sgP; rw [if_neg (by omega), if_neg (by omega), if_neg (by omega), if_neg (by omega), if_pos (by omega)]
      rw [e]
      exact cons_fin f (-1) w (by omega) (by omega)
  · obtain ⟨k, rfl⟩ : ∃ k, I = k + 2 := ⟨I - 2, by omega⟩
    obtain rfl : a = (k : Int) := by omega
    by_cases h2 : f = 0
    · subst h2
      have e : sgP (k + 2) 99 0 = alo k := by unfold sgP; rw [if_neg (by omega), if_neg (by omega), if_neg (by omega), if_pos (by omega), Nat.add_sub_cancel]
      rw [e]
      exact cons_init k (-1) w (by omega)
    · have e : sgP (k + 2) 99 f = 0 := by unfold sgP; rw [if_neg (by omega), if_neg (by omega), if_neg (by omega), if_neg (by omega), if_neg (by omega)]
      rw [e]
      exact cons_zero k f (-1) w (.inr ⟨by omega, by omega⟩)
theorem sV_pos {S : Nat} (h : S ≠ 0) : sV S = .tuple #[.int .i32 (S : Int), .bool true] := by unfold sV; rw [decide_eq_true h]
theorem sV_tup (S : Nat) : ∃ (z : Int) (b : Bool), sV S = .tuple #[.int .i32 z, .bool b] := ⟨_, _, rfl⟩
set_option maxRecDepth 100000 in
set_option maxHeartbeats 2000000 in
theorem psign_any (I m f : Nat) (a b : Int) (w : World) (ha : a = (I : Int) - 2) (hb : b = nI m) (hI : 1 ≤ I ∧ I ≤ 20) (hm : m = 99 ∨ m ≤ 20) (hf : f ≤ 27) : Calls Tryd.prog 15 #[.agg #[.int .i64 a, .int .i64 b, .int .i64 f]] w fun e w' => e = .returned (sV (sgP I m f)) ∧ Below w.heap.size w w' := by
  rcases hm with rfl | hm
  · obtain rfl : b = -1 := hb
    have HC := Lib.hid (fun w2 => cons_any I f a w2 ha hI hf)
    obtain ⟨z, t, hz⟩ := sV_tup (sgP I 99 f)
    rw [hz] at HC ⊢
    clear hz ha hI hf
    go_enter Tryd.func15, Tryd.ntmps15
    go_wp2_with (go_at_call 25; refine (HC.out _).mono ?_; rintro e2 w2 ⟨rfl, hb2⟩)
    go_ret2
    exact ⟨rfl, ((Below.refl _ w).alloc (Nat.le_refl _) _).trans (hb2.mono (by simp))⟩
  · rw [nI_le (by omega)] at hb
    subst hb
    have n0 : ((m : Int) == -1) = false := beq_eq_false_iff_ne.2 (by omega)
    by_cases h1 : I = 1
    · subst h1
      obtain rfl : a = -1 := by omega
      by_cases h2 : f = 0
      · subst h2
        have e : sgP 1 m 0 = 12623 + m := by unfold sgP; rw [if_neg (by omega), if_neg (by omega), if_pos (by omega)]
        have HV : Hid (sV (sgP 1 m 0) = .tuple #[.int .i32 (12623 + (m : Int)), .bool true]) := Lib.hid (by rw [e, sV_pos (by omega)]; rw [show ((12623 + m : Nat) : Int) = 12623 + (m : Int) by omega])
        rw [HV.out]
        have m0 : (0 : Int) ≤ (m : Int) := by omega
        have m1 : (m : Int) ≤ 20 := by omega
        clear HV e
        go_enter Tryd.func15, Tryd.ntmps15
        go_wp2_with fail
        go_ret2
        exact ⟨rfl, (Below.refl _ _).alloc (Nat.le_refl _) _⟩
      · have e : sgP 1 m f = 0 := by unfold sgP; rw [if_neg (by omega), if_neg (by omega), if_neg (by omega), if_neg (by omega), if_neg (by omega)]
        rw [e]
        have n1 : ((f : Int) == 0) = false := beq_eq_false_iff_ne.2 (by omega)
        go_enter Tryd.func15, Tryd.ntmps15
        go_wp2_with fail
        go_ret2
        exact ⟨rfl, (Below.refl _ _).alloc (Nat.le_refl _) _⟩
    · obtain ⟨k, rfl⟩ : ∃ k, I = k + 2 := ⟨I - 2, by omega⟩
      obtain rfl : a = (k : Int) := by omega
      have e : sgP (k + 2) m f = 44032 + (k * 21 + m) * 28 + f := by unfold sgP; rw [if_neg (by omega), if_pos (by omega), Nat.add_sub_cancel]
      have HV : Hid (sV (sgP (k + 2) m f) = .tuple #[.int .i32 (44032 + ((k : Int) * 21 + (m : Int)) * 28 + (f : Int)), .bool true]) := Lib.hid (by rw [e, sV_pos (by omega)]; rw [show ((44032 + (k * 21 + m) * 28 + f : Nat) : Int) = 44032 + ((k : Int) * 21 + (m : Int)) * 28 + (f : Int) by omega])
      rw [HV.out]
      have HS := Lib.hid (fun w2 => syllable_yes k m f w2 ⟨⟨by omega, by omega⟩, ⟨by omega, by omega⟩, by omega, by omega⟩)
      generalize 44032 + ((k : Int) * 21 + (m : Int)) * 28 + (f : Int) = Z at *
      have n1 : ((k : Int) == -1) = false := beq_eq_false_iff_ne.2 (by omega)
      have n2 : ((k : Int) != -1) = true := by rw [bne, n1]; rfl
      clear HV e ha
      go_enter Tryd.func15, Tryd.ntmps15
      go_wp2_with (go_at_call 12; refine (HS.out _).mono ?_; rintro e2 w2 ⟨rfl, rfl⟩)
      go_ret2
      exact ⟨rfl, (Below.refl _ _).alloc (Nat.le_refl _) _⟩
/-- What Sign answers. -/
theorem or_bytes (a b : Nat) (ha : a < 256) (hb : b < 256) : bits .or .i64 ((a : Int) * 256) (b : Int) = ((a * 256 + b : Nat) : Int) := by
  rw [bits_join .i64 31 (by decide) (fun n a b => wrap64 (by omega) (by omega)) 8 _ _ (by omega) (by omega) (by omega) (by omega) (by omega) (by omega)]
  omega
theorem pc_cases (c : Nat) (hc : c < 65536) : (pcC c = pcNone ∧ sg c = 0) ∨ ∃ I m f : Nat, (1 ≤ I ∧ I ≤ 20) ∧ (m = 99 ∨ m ≤ 20) ∧ f ≤ 27 ∧ sg c = sgP I m f ∧ pcC c = .tuple #[.agg #[.int .i64 ((I : Int) - 2), .int .i64 (nI m), .int .i64 (f : Int)], .bool true] := by
  unfold pcC sg
  by_cases h : c < 32768
  · left; rw [if_pos h, if_pos h]; exact ⟨rfl, rfl⟩
  rw [if_neg h, if_neg h, sgn_is]
  have hm := med_cases (c / 32 % 32) (by omega)
  have hf := fin_cases (c % 32) (by omega)
  by_cases h1 : c / 1024 % 32 = 0 ∨ 20 < c / 1024 % 32
  · left
    refine ⟨?_, by unfold sgP; rw [if_pos (by omega)]⟩
    unfold nm0; rw [if_pos h1]; rfl
  have e0 : nm0 (c / 1024 % 32) = some (((c / 1024 % 32 : Nat) : Int) - 2) := if_neg h1
  generalize c / 1024 % 32 = I at *
  by_cases h2 : med (c / 32 % 32) = 98
  · left
    refine ⟨?_, by unfold sgP; rw [if_pos (by omega)]⟩
    unfold nm1; rw [if_pos h2, e0]; rfl
  have e1 : nm1 (c / 32 % 32) = some (nI (med (c / 32 % 32))) := if_neg h2
  generalize med (c / 32 % 32) = m at *
  by_cases h3 : fin (c % 32) = 98
  · left
    refine ⟨?_, by unfold sgP; rw [if_pos (by omega)]⟩
    unfold nm2; rw [if_pos h3, e0, e1]; rfl
  have e2 : nm2 (c % 32) = some (nI (fin (c % 32))) := if_neg h3
  generalize fin (c % 32) = f at *
  right
  refine ⟨I, m, f, by omega, by omega, by omega, rfl, ?_⟩
  rw [e0, e1, e2, nI_le (m := f) (by omega)]; rfl
set_option maxRecDepth 100000 in
set_option maxHeartbeats 2000000 in
theorem sign_any (a b : Nat) (w : World) (ha : a < 256) (hb : b < 256) (hK : KD w) : Calls Tryd.prog 7 #[.int .u8 a, .int .u8 b] w fun e w' => e = .returned (sV (sg (a * 256 + b))) ∧ Below w.heap.size w w' := by
  have hor := or_bytes a b ha hb
  have HP := Lib.hid (partsOfCode_any (a * 256 + b) w (by omega) hK)
  have hc := pc_cases (a * 256 + b) (by omega)
  generalize sg (a * 256 + b) = S at *
  generalize pcC (a * 256 + b) = V at *
  generalize ((a * 256 + b : Nat) : Int) = C at *
  have a0 : (0 : Int) ≤ (a : Int) := by omega
  have a1 : (a : Int) < 256 := by omega
  have b0 : (0 : Int) ≤ (b : Int) := by omega
  have b1 : (b : Int) < 256 := by omega
  rcases hc with ⟨rfl, rfl⟩ | ⟨I, m, f, hI, hm, hf, rfl, rfl⟩
  · replace HP : Hid (Calls Tryd.prog 14 #[.int .i64 C] w fun e w' => e = .returned (.tuple #[.agg #[.int .i64 0, .int .i64 0, .int .i64 0], .bool false]) ∧ Below w.heap.size w w') := HP
    go_enter Tryd.func7, Tryd.ntmps7
    go_wp2_with (go_at_call 14; refine (HP.out).mono ?_; rintro e2 w2 ⟨rfl, hb2⟩)
    go_ret2
    exact ⟨rfl, hb2.alloc hb2.size _⟩
  · have HS := Lib.hid (fun w2 => psign_any I m f _ _ w2 rfl rfl hI hm hf)
    obtain ⟨z, t, hz⟩ := sV_tup (sgP I m f)
    rw [hz] at HS ⊢
    generalize (I : Int) - 2 = i at *
    generalize nI m = j at *
    clear hz hI hm hf
    go_enter Tryd.func7, Tryd.ntmps7
    go_wp2_with (first | (go_at_call 14; refine (HP.out).mono ?_; rintro e2 w2 ⟨rfl, hb2⟩) | (go_at_call 15; refine (HS.out _).mono ?_; rintro e3 w3 ⟨rfl, hb3⟩))
    go_ret2
    exact ⟨rfl, (hb2.alloc hb2.size _).trans (hb3.mono (by have := hb2.size; simp; omega))⟩
end Go.Proofs.YtiamabeapomabaaDoor.jo
