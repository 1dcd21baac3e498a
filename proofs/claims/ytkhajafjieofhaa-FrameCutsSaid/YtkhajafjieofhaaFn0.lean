/- The document's own answers of layer 13: Bit, Locked, Grouped, Measured, Spread, Letters, Letter, Named: contracts. -/
import Derived.Test.YtkhajafjieofhaaFr1
import Derived.Test.YtkhajafjieofhaaUn1
import Derived.Test.YtkhajafjieofhaaOct7
namespace Go.Proofs.Ytkhajafjieofhaa.fn
open Go.RowKit Go.Lib
open Go.Proofs.Ytkhajafjieofhaa.fr
set_option linter.unusedVariables false
theorem nb {p q : Int} (h : ¬ p = q) : (p == q) = false ∧ (p != q) = true := by simp [h]
theorem bit_int (n b : Nat) : bit n b = (((n : Int) / (b : Int) % 2) == 1) := by
  unfold bit
  rw [Bool.eq_iff_iff]
  simp only [beq_iff_eq]
  omega
theorem str_ne {s : ByteArray} (h : s.size ≠ 0) : ¬ s.toList = [] ∧ s.toList.isEmpty = false := by
  have m1 : ¬ s.toList = [] := fun e => by
    rw [ByteArray.toList_eq] at e
    apply h
    have : s.data.toList.length = 0 := by rw [e]; rfl
    rwa [un.size_list] at this
  exact ⟨m1, by rw [Bool.eq_false_iff]; intro e; exact m1 (List.isEmpty_iff.1 e)⟩
set_option maxRecDepth 100000 in
theorem Bit_any (n b : Nat) (B : Int) (w : World) (hn : n ≤ 255) (hb : b = 1 ∨ b = 2 ∨ b = 4 ∨ b = 8 ∨ b = 32 ∨ b = 64 ∨ b = 128) (hB : B = (b : Int)) : Calls Try.prog 33 #[.int .i64 n, .int .i64 B] w fun e w' => e = .returned (.bool (bit n b)) ∧ w = w' := by
  rw [bit_int, ← hB]
  have g0 : (0 : Int) ≤ (n : Int) := by omega
  have g1 : (n : Int) ≤ 255 := by omega
  have hh : B = 1 ∨ B = 2 ∨ B = 4 ∨ B = 8 ∨ B = 32 ∨ B = 64 ∨ B = 128 := by omega
  clear hb hB
  generalize (n : Int) = x at *
  rcases hh with rfl | rfl | rfl | rfl | rfl | rfl | rfl
  all_goals
    go_enter Try.func33, Try.ntmps33
    go_wp2
    go_ret
    exact ⟨by first | rfl | (simp only [Int.ediv_one]; rfl), rfl⟩
set_option maxRecDepth 100000 in
set_option maxHeartbeats 1000000 in
theorem Locked_any (v : Int) (n : Nat) (w : World) (hn : n ≤ 255) : Calls Try.prog 9 #[.int .i64 v, .int .i64 n] w fun e w' => e = .returned (.bool (lckd v n)) ∧ w = w' := by
  obtain ⟨PP, hPP⟩ : ∃ PP : Ending → World → Prop, PP = fun e w' => e = .returned (.bool (lckd v n)) ∧ w = w' := ⟨_, rfl⟩
  rw [← hPP]
  have HP : Hid (∀ x, lckd v n = x → PP (.returned (.bool x)) w) := Lib.hid (fun x h => by rw [hPP, h]; exact ⟨rfl, rfl⟩)
  clear hPP
  by_cases h3 : v = 3
  · subst h3
    have H0 := Lib.hid (fun W => Bit_any n 128 128 W hn (by decide) rfl)
    have H1 := Lib.hid (fun W => Bit_any n 64 64 W hn (by decide) rfl)
    have HV : Hid (lckd 3 n = (bit n 128 || bit n 64)) := Lib.hid (by unfold lckd; rw [if_pos rfl])
    generalize bit n 128 = a at *
    generalize bit n 64 = b at *
    generalize (n : Int) = x at *
    cases a <;> cases b
    all_goals
      go_enter Try.func9, Try.ntmps9
      go_wp2_with (first | (go_at_call 33; (with_reducible refine (H0.out _).mono ?_); rintro e1 w1 ⟨rfl, rfl⟩) | (go_at_call 33; (with_reducible refine (H1.out _).mono ?_); rintro e1 w1 ⟨rfl, rfl⟩))
      exact HP.out _ HV.out
  by_cases h4 : v = 4
  · subst h4
    have H0 := Lib.hid (fun W => Bit_any n 8 8 W hn (by decide) rfl)
    have H1 := Lib.hid (fun W => Bit_any n 4 4 W hn (by decide) rfl)
    have HV : Hid (lckd 4 n = (bit n 8 || bit n 4)) := Lib.hid (by unfold lckd; rw [if_neg (by omega)]; simp)
    generalize bit n 8 = a at *
    generalize bit n 4 = b at *
    generalize (n : Int) = x at *
    clear h3
    cases a <;> cases b
    all_goals
      go_enter Try.func9, Try.ntmps9
      go_wp2_with (first | (go_at_call 33; (with_reducible refine (H0.out _).mono ?_); rintro e1 w1 ⟨rfl, rfl⟩) | (go_at_call 33; (with_reducible refine (H1.out _).mono ?_); rintro e1 w1 ⟨rfl, rfl⟩))
      exact HP.out _ HV.out
  have HV : Hid (lckd v n = false) := Lib.hid (by unfold lckd; rw [if_neg h3, decide_eq_false h4]; rfl)
  obtain ⟨g3, _⟩ := nb h3
  obtain ⟨g4, _⟩ := nb h4
  go_enter Try.func9, Try.ntmps9
  go_wp2_with fail
  exact HP.out _ HV.out
set_option maxRecDepth 100000 in
set_option maxHeartbeats 1000000 in
theorem Grouped_any (v : Int) (n : Nat) (w : World) (hn : n ≤ 255) : Calls Try.prog 11 #[.int .i64 v, .int .i64 n] w fun e w' => e = .returned (.bool (grpd v n)) ∧ w = w' := by
  obtain ⟨PP, hPP⟩ : ∃ PP : Ending → World → Prop, PP = fun e w' => e = .returned (.bool (grpd v n)) ∧ w = w' := ⟨_, rfl⟩
  rw [← hPP]
  have HP : Hid (∀ x, grpd v n = x → PP (.returned (.bool x)) w) := Lib.hid (fun x h => by rw [hPP, h]; exact ⟨rfl, rfl⟩)
  clear hPP
  have HL := Lib.hid (fun W => Locked_any v n W hn)
  have HG : Hid (grpd v n = (!lckd v n && (decide (v = 3) && bit n 32 || decide (v = 4) && bit n 64))) := Lib.hid rfl
  have H0 := Lib.hid (fun W => Bit_any n 32 32 W hn (by decide) rfl)
  have H1 := Lib.hid (fun W => Bit_any n 64 64 W hn (by decide) rfl)
  generalize lckd v n = L at *
  generalize bit n 32 = a at *
  generalize bit n 64 = b at *
  generalize grpd v n = G at *
  generalize (n : Int) = x at *
  cases L with
  | true =>
    have HV : Hid (G = false) := Lib.hid (by rw [HG.out]; rfl)
    go_enter Try.func11, Try.ntmps11
    go_wp2_with (go_at_call 9; (with_reducible refine (HL.out _).mono ?_); rintro e1 w1 ⟨rfl, rfl⟩)
    exact HP.out _ HV.out
  | false =>
    by_cases h3 : v = 3
    · subst h3
      have HV : Hid (G = a) := Lib.hid (by rw [HG.out]; simp)
      cases a
      all_goals
        go_enter Try.func11, Try.ntmps11
        go_wp2_with (first | (go_at_call 9; (with_reducible refine (HL.out _).mono ?_); rintro e1 w1 ⟨rfl, rfl⟩) | (go_at_call 33; (with_reducible refine (H0.out _).mono ?_); rintro e1 w1 ⟨rfl, rfl⟩))
        exact HP.out _ HV.out
    obtain ⟨g3, _⟩ := nb h3
    by_cases h4 : v = 4
    · subst h4
      have HV : Hid (G = b) := Lib.hid (by rw [HG.out]; simp)
      clear h3 g3
      cases b
      all_goals
        go_enter Try.func11, Try.ntmps11
        go_wp2_with (first | (go_at_call 9; (with_reducible refine (HL.out _).mono ?_); rintro e1 w1 ⟨rfl, rfl⟩) | (go_at_call 33; (with_reducible refine (H1.out _).mono ?_); rintro e1 w1 ⟨rfl, rfl⟩))
        exact HP.out _ HV.out
    have HV : Hid (G = false) := Lib.hid (by rw [HG.out, decide_eq_false h3, decide_eq_false h4]; rfl)
    obtain ⟨g4, _⟩ := nb h4
    go_enter Try.func11, Try.ntmps11
    go_wp2_with (go_at_call 9; (with_reducible refine (HL.out _).mono ?_); rintro e1 w1 ⟨rfl, rfl⟩)
    exact HP.out _ HV.out
set_option maxRecDepth 100000 in
set_option maxHeartbeats 1000000 in
theorem Measured_any (v : Int) (n : Nat) (w : World) (hn : n ≤ 255) : Calls Try.prog 13 #[.int .i64 v, .int .i64 n] w fun e w' => e = .returned (.bool (msrd v n)) ∧ w = w' := by
  obtain ⟨PP, hPP⟩ : ∃ PP : Ending → World → Prop, PP = fun e w' => e = .returned (.bool (msrd v n)) ∧ w = w' := ⟨_, rfl⟩
  rw [← hPP]
  have HP : Hid (∀ x, msrd v n = x → PP (.returned (.bool x)) w) := Lib.hid (fun x h => by rw [hPP, h]; exact ⟨rfl, rfl⟩)
  clear hPP
  have HL := Lib.hid (fun W => Locked_any v n W hn)
  have HG : Hid (msrd v n = (decide (v = 4) && !lckd v n && bit n 1)) := Lib.hid rfl
  have H0 := Lib.hid (fun W => Bit_any n 1 1 W hn (by decide) rfl)
  generalize lckd v n = L at *
  generalize bit n 1 = a at *
  generalize msrd v n = G at *
  generalize (n : Int) = x at *
  by_cases h4 : v = 4
  · subst h4
    have HV : Hid (G = (!L && a)) := Lib.hid (by rw [HG.out]; simp)
    cases L <;> cases a
    all_goals
      go_enter Try.func13, Try.ntmps13
      go_wp2_with (first | (go_at_call 9; (with_reducible refine (HL.out _).mono ?_); rintro e1 w1 ⟨rfl, rfl⟩) | (go_at_call 33; (with_reducible refine (H0.out _).mono ?_); rintro e1 w1 ⟨rfl, rfl⟩))
      exact HP.out _ HV.out
  have HV : Hid (G = false) := Lib.hid (by rw [HG.out, decide_eq_false h4]; rfl)
  obtain ⟨g4, _⟩ := nb h4
  go_enter Try.func13, Try.ntmps13
  go_wp2_with fail
  exact HP.out _ HV.out
set_option maxRecDepth 100000 in
set_option maxHeartbeats 1000000 in
theorem Spread_any (v : Int) (n : Nat) (w : World) (hn : n ≤ 255) : Calls Try.prog 15 #[.int .i64 v, .int .i64 n] w fun e w' => e = .returned (.bool (sprd v n)) ∧ w = w' := by
  obtain ⟨PP, hPP⟩ : ∃ PP : Ending → World → Prop, PP = fun e w' => e = .returned (.bool (sprd v n)) ∧ w = w' := ⟨_, rfl⟩
  rw [← hPP]
  have HP : Hid (∀ x, sprd v n = x → PP (.returned (.bool x)) w) := Lib.hid (fun x h => by rw [hPP, h]; exact ⟨rfl, rfl⟩)
  clear hPP
  have HL := Lib.hid (fun W => Locked_any v n W hn)
  have HG : Hid (sprd v n = (decide (v = 4) && !lckd v n && bit n 2)) := Lib.hid rfl
  have H0 := Lib.hid (fun W => Bit_any n 2 2 W hn (by decide) rfl)
  generalize lckd v n = L at *
  generalize bit n 2 = a at *
  generalize sprd v n = G at *
  generalize (n : Int) = x at *
  by_cases h4 : v = 4
  · subst h4
    have HV : Hid (G = (!L && a)) := Lib.hid (by rw [HG.out]; simp)
    cases L <;> cases a
    all_goals
      go_enter Try.func15, Try.ntmps15
      go_wp2_with (first | (go_at_call 9; (with_reducible refine (HL.out _).mono ?_); rintro e1 w1 ⟨rfl, rfl⟩) | (go_at_call 33; (with_reducible refine (H0.out _).mono ?_); rintro e1 w1 ⟨rfl, rfl⟩))
      exact HP.out _ HV.out
  have HV : Hid (G = false) := Lib.hid (by rw [HG.out, decide_eq_false h4]; rfl)
  obtain ⟨g4, _⟩ := nb h4
  go_enter Try.func15, Try.ntmps15
  go_wp2_with fail
  exact HP.out _ HV.out
theorem Letters_any (v : Int) (w : World) : Calls Try.prog 17 #[.int .i64 v] w fun e w' => e = .returned (.int .i64 (ltrs v : Nat)) ∧ w = w' := by
  by_cases h2 : v = 2
  · subst h2
    go_enter Try.func17, Try.ntmps17
    go_wp2
    go_ret
    exact ⟨rfl, rfl⟩
  obtain ⟨g2, _⟩ := nb h2
  by_cases h3 : v = 3
  · subst h3
    clear h2 g2
    go_enter Try.func17, Try.ntmps17
    go_wp2
    go_ret
    exact ⟨rfl, rfl⟩
  obtain ⟨g3, _⟩ := nb h3
  by_cases h4 : v = 4
  · subst h4
    clear h2 g2 h3 g3
    go_enter Try.func17, Try.ntmps17
    go_wp2
    go_ret
    exact ⟨rfl, rfl⟩
  obtain ⟨g4, _⟩ := nb h4
  have HV : Hid (((ltrs v : Nat) : Int) = 0) := Lib.hid (by unfold ltrs; rw [if_neg h2, if_neg (by omega)]; rfl)
  go_enter Try.func17, Try.ntmps17
  go_wp2
  go_ret
  exact ⟨by rw [HV.out]; rfl, rfl⟩
set_option maxRecDepth 100000 in
theorem Letter_any (c : Nat) (w : World) : Calls Try.prog 36 #[.int .u8 c] w fun e w' => e = .returned (.bool (ltr c)) ∧ w = w' := by
  obtain ⟨PP, hPP⟩ : ∃ PP : Ending → World → Prop, PP = fun e w' => e = .returned (.bool (ltr c)) ∧ w = w' := ⟨_, rfl⟩
  rw [← hPP]
  have HP : Hid (∀ x, ltr c = x → PP (.returned (.bool x)) w) := Lib.hid (fun x h => by rw [hPP, h]; exact ⟨rfl, rfl⟩)
  clear hPP
  have hx : (65 ≤ c ∧ c ≤ 90) ∨ (65 ≤ c ∧ 90 < c) ∨ (c < 65 ∧ 48 ≤ c ∧ c ≤ 57) ∨ (c < 65 ∧ 48 ≤ c ∧ 57 < c) ∨ (c < 65 ∧ c < 48) := by omega
  rcases hx with h | h | h | h | h
  · have HV : Hid (ltr c = true) := Lib.hid (by unfold ltr; simp; omega)
    obtain ⟨x, hx⟩ : ∃ x : Int, x = (c : Int) := ⟨_, rfl⟩
    rw [← hx]
    have q0 : (65 : Int) ≤ x := by omega
    have q1 : x ≤ 90 := by omega
    clear hx h
    go_enter Try.func36, Try.ntmps36
    go_wp2_with fail
    exact HP.out _ HV.out
  · have HV : Hid (ltr c = false) := Lib.hid (by unfold ltr; simp; omega)
    obtain ⟨x, hx⟩ : ∃ x : Int, x = (c : Int) := ⟨_, rfl⟩
    rw [← hx]
    have q0 : (65 : Int) ≤ x := by omega
    have q1 : ¬ x ≤ 90 := by omega
    have q2 : (48 : Int) ≤ x := by omega
    have q3 : ¬ x ≤ 57 := by omega
    clear hx h
    go_enter Try.func36, Try.ntmps36
    go_wp2_with fail
    exact HP.out _ HV.out
  · have HV : Hid (ltr c = true) := Lib.hid (by unfold ltr; simp; omega)
    obtain ⟨x, hx⟩ : ∃ x : Int, x = (c : Int) := ⟨_, rfl⟩
    rw [← hx]
    have q0 : ¬ (65 : Int) ≤ x := by omega
    have q1 : (48 : Int) ≤ x := by omega
    have q2 : x ≤ 57 := by omega
    clear hx h
    go_enter Try.func36, Try.ntmps36
    go_wp2_with fail
    exact HP.out _ HV.out
  · have HV : Hid (ltr c = false) := Lib.hid (by unfold ltr; simp; omega)
    obtain ⟨x, hx⟩ : ∃ x : Int, x = (c : Int) := ⟨_, rfl⟩
    rw [← hx]
    have q0 : ¬ (65 : Int) ≤ x := by omega
    have q1 : (48 : Int) ≤ x := by omega
    have q2 : ¬ x ≤ 57 := by omega
    clear hx h
    go_enter Try.func36, Try.ntmps36
    go_wp2_with fail
    exact HP.out _ HV.out
  · have HV : Hid (ltr c = false) := Lib.hid (by unfold ltr; simp; omega)
    obtain ⟨x, hx⟩ : ∃ x : Int, x = (c : Int) := ⟨_, rfl⟩
    rw [← hx]
    have q0 : ¬ (65 : Int) ≤ x := by omega
    have q1 : ¬ (48 : Int) ≤ x := by omega
    clear hx h
    go_enter Try.func36, Try.ntmps36
    go_wp2_with fail
    exact HP.out _ HV.out
set_option maxRecDepth 100000 in
set_option maxHeartbeats 1000000 in
theorem Named_any (v : Int) (s : ByteArray) (w : World) (hs : s.size ≤ 4000) : Calls Try.prog 19 #[.int .i64 v, .string s] w fun e w' => e = .returned (.bool (nmd v s.data.toList)) ∧ w = w' := by
  obtain ⟨PP, hPP⟩ : ∃ PP : Ending → World → Prop, PP = fun e w' => e = .returned (.bool (nmd v s.data.toList)) ∧ w = w' := ⟨_, rfl⟩
  rw [← hPP]
  have HP : Hid (∀ x w', nmd v s.data.toList = x → w = w' → PP (.returned (.bool x)) w') := Lib.hid (fun x w' h hw => by rw [hPP, h]; exact ⟨rfl, hw⟩)
  clear hPP
  have hl := un.size_list s
  have HLT := Lib.hid (fun W => Letters_any v W)
  by_cases h0 : s.size = 0
  · have HV : Hid (nmd v s.data.toList = false) := Lib.hid (by unfold nmd; rw [hl, decide_eq_false (by omega)]; rfl)
    obtain rfl : s = ⟨#[]⟩ := by rw [← un.bs_back s, List.length_eq_zero_iff.1 (show s.data.toList.length = 0 by omega)]; rfl
    clear hl h0 hs
    go_enter Try.func19, Try.ntmps19
    go_wp2_with fail
    exact HP.out _ _ HV.out rfl
  obtain ⟨m1, m2⟩ := str_ne h0
  by_cases h1 : s.size = ltrs v
  · have HI := Lib.hid (fun (j : Nat) (hj : j < s.size) wx => un.index_bt s j hj wx)
    have HC := Lib.hid (fun j W => Letter_any (un.bt s j) W)
    have HN : Hid (nmd v s.data.toList = s.data.toList.all fun c => ltr c.toNat) := Lib.hid (by unfold nmd; rw [hl, decide_eq_true ⟨by omega, h1⟩]; rfl)
    have HAL : Hid (∀ j, (∀ i, i < j → ltr (un.bt s i) = true) → (s.data.toList.take j).all (fun c => ltr c.toNat) = true) := Lib.hid (fun j h => by
      rw [List.all_eq_true]
      intro x hx
      obtain ⟨i, hi, rfl⟩ := List.mem_iff_getElem.1 hx
      rw [List.length_take] at hi
      rw [List.getElem_take]
      have h2 := h i (by omega)
      unfold un.bt at h2
      rwa [List.getD_eq_getElem?_getD, List.getElem?_eq_getElem (by omega)] at h2)
    have HNO : Hid (∀ j, j < s.size → ltr (un.bt s j) = false → (s.data.toList.all fun c => ltr c.toNat) = false) := Lib.hid (fun j hj h => by
      rw [List.all_eq_false]
      refine ⟨s.data.toList[j]'(by omega), List.getElem_mem _, ?_⟩
      unfold un.bt at h
      rw [List.getD_eq_getElem?_getD, List.getElem?_eq_getElem (by omega)] at h
      simp only [Option.getD_some] at h
      rw [h]; simp)
    rw [← h1] at HLT
    have HYES : Hid ((∀ i, i < s.size → ltr (un.bt s i) = true) → (s.data.toList.all fun c => ltr c.toNat) = true) := Lib.hid (fun h => by
      have h2 := HAL.out s.size h
      rwa [List.take_of_length_le (by omega)] at h2)
    clear HAL
    generalize nmd v s.data.toList = R at *
    generalize (s.data.toList.all fun c => ltr c.toNat) = AL at *
    have HS := Lib.hid hs
    clear hl h1 hs h0
    go_enter Try.func19, Try.ntmps19
    go_wp2_with (go_at_call 17; refine (HLT.out _).mono ?_; rintro e1 w1 ⟨rfl, rfl⟩)
    go_loopw [5] (fun t wr => ∃ j : Nat, j ≤ s.size ∧ t = .int .i64 j ∧ w = wr ∧ ∀ i, i < j → ltr (un.bt s i) = true) (fun t _ => s.size - (RowKit.intOf t).toNat)
    case atStart => exact ⟨0, Nat.zero_le _, rfl, rfl, fun i hi => by omega⟩
    case round =>
      obtain ⟨j, hj, rfl, rfl, hall⟩ := hrel
      have HA := Lib.hid hall
      clear hall
      by_cases hlt : j < s.size
      · have hix := HI.out j hlt
        have HCJ := Lib.hid (HC.out j)
        have hsz := HS.out
        have HAJ := Lib.hid (HNO.out j hlt)
        have HNX : Hid (ltr (un.bt s j) = true → ∀ i, i < j + 1 → ltr (un.bt s i) = true) := Lib.hid (fun h i hi => by
          by_cases e : i = j
          · subst e; exact h
          · exact HA.out i (by omega))
        generalize ltr (un.bt s j) = B at *
        generalize ((un.bt s j : Nat) : Int) = X at *
        cases B with
        | true =>
          go_wp2_with (go_at_call 36; refine (HCJ.out _).mono ?_; rintro e1 w1 ⟨rfl, rfl⟩)
          go_roundw
          case rel => exact ⟨j + 1, by omega, by go_num, by simp, HNX.out (by simp)⟩
          case measure => simp [RowKit.intOf]; omega
        | false =>
          have HV : Hid (R = false) := Lib.hid (by rw [HN.out]; exact HAJ.out rfl)
          go_wp2_with (go_at_call 36; refine (HCJ.out _).mono ?_; rintro e1 w1 ⟨rfl, rfl⟩)
          exact HP.out _ _ HV.out rfl
      · obtain rfl : j = s.size := by omega
        have HV : Hid (R = true) := Lib.hid (by rw [HN.out]; exact HYES.out HA.out)
        go_wp2_with fail
        exact HP.out _ _ HV.out rfl
  · have HV : Hid (nmd v s.data.toList = false) := Lib.hid (by unfold nmd; rw [hl, decide_eq_false (fun h => h1 h.2)]; rfl)
    obtain ⟨g1, g2⟩ := nb (p := (s.size : Int)) (q := ((ltrs v : Nat) : Int)) (by omega)
    have hL : ltrs v ≤ 4 := by unfold ltrs; split <;> (try split) <;> omega
    clear hl h1
    generalize ltrs v = L at *
    go_enter Try.func19, Try.ntmps19
    go_wp2_with (go_at_call 17; refine (HLT.out _).mono ?_; rintro e1 w1 ⟨rfl, rfl⟩)
    exact HP.out _ _ HV.out rfl
end Go.Proofs.Ytkhajafjieofhaa.fn
