/- The landed frame: Letters, proper, Named: contracts. -/
import Derived.Test.YtkhajafjieofhaaFlA
import Derived.Test.YtkhajafjieofhaaUn2
namespace Go.Proofs.Ytkhajafjieofhaa.fl
open Go.RowKit Go.Lib
open Go.Proofs.Ytkhajafjieofhaa.un (bs bs_list bs_size bs_app bs_back size_list bt bt_lt bt_get index_bt wrap64 data_app drop_at drop_end)
open Go.Proofs.Ytkhajafjieofhaa.fr Go.Proofs.Ytkhajafjieofhaa.bk
set_option linter.unusedVariables false
set_option maxRecDepth 100000 in
theorem letters_any (v : Int) (w : World) : Calls Try.prog 16 #[.int .i64 v] w fun e w' => e = .returned (.int .i64 (ltrs v : Nat)) ∧ w = w' := by
  by_cases h2 : v = 2
  · subst h2
    go_enter Try.func16, Try.ntmps16
    go_wp2
    go_ret
    exact ⟨rfl, rfl⟩
  obtain ⟨q2, _⟩ := nb h2
  by_cases h3 : v = 3
  · subst h3
    go_enter Try.func16, Try.ntmps16
    go_wp2
    go_ret
    exact ⟨rfl, rfl⟩
  obtain ⟨q3, _⟩ := nb h3
  by_cases h4 : v = 4
  · subst h4
    go_enter Try.func16, Try.ntmps16
    go_wp2
    go_ret
    exact ⟨rfl, rfl⟩
  obtain ⟨q4, _⟩ := nb h4
  have e : ltrs v = 0 := by unfold ltrs; rw [if_neg h2, if_neg (by omega)]
  rw [e]
  go_enter Try.func16, Try.ntmps16
  go_wp2
  go_ret
  exact ⟨rfl, rfl⟩
/-- How many letters stand ahead. -/
structure Pp (s : ByteArray) (p : Nat) : Prop where
  le : p ≤ s.size
  all : ∀ j, j < p → ltr (bt s j) = true
  stop : p < s.size → ltr (bt s p) = false
theorem pp_step (s : ByteArray) : ∀ n, n ≤ s.size → (∃ p, Pp s p) ∨ ∀ j, j < n → ltr (bt s j) = true
  | 0, _ => .inr fun j h => absurd h (Nat.not_lt_zero _)
  | n + 1, h => by
    rcases pp_step s n (by omega) with h1 | h1
    · exact .inl h1
    · cases hb : ltr (bt s n) with
      | false => exact .inl ⟨n, by omega, h1, fun _ => hb⟩
      | true =>
        refine .inr fun j hj => ?_
        by_cases e : j = n
        · subst e; exact hb
        · exact h1 j (by omega)
theorem pp_ex (s : ByteArray) : ∃ p, Pp s p := by
  rcases pp_step s s.size (Nat.le_refl _) with h | h
  · exact h
  · exact ⟨s.size, Nat.le_refl _, h, fun h => absurd h (Nat.lt_irrefl _)⟩
theorem ltr_at {c : Nat} : ltr c = true ↔ (65 ≤ c ∧ c ≤ 90) ∨ (48 ≤ c ∧ c ≤ 57) := by unfold ltr; simp
theorem ltr_no {c : Nat} : ltr c = false ↔ ¬ ((65 ≤ c ∧ c ≤ 90) ∨ (48 ≤ c ∧ c ≤ 57)) := by unfold ltr; simp
set_option maxRecDepth 100000 in
set_option maxHeartbeats 2000000 in
theorem proper_any (s : ByteArray) (p : Nat) (w : World) (hs : s.size ≤ 4000) (hp : Pp s p) : Calls Try.prog 35 #[.string s] w fun e w' => e = .returned (.int .i64 (p : Int)) ∧ w = w' := by
  have HP := Lib.hid hp
  have hle := hp.le
  clear hp
  go_enter Try.func35, Try.ntmps35
  go_wp2_with fail
  go_loopw [3] (fun i wr => ∃ j : Nat, j ≤ p ∧ i = .int .i64 j ∧ w = wr) (fun i _ => p - (RowKit.intOf i).toNat)
  case atStart => exact ⟨0, by omega, rfl, rfl⟩
  case round =>
    obtain ⟨j, hj, rfl, rfl⟩ := hrel
    have j0 : (0 : Int) ≤ (j : Int) := by omega
    have j9 : (j : Int) ≤ 4000 := by omega
    have e2 : IntKind.i64.wrap ((j : Int) + 1) = (j : Int) + 1 := wrap64 (by omega) (by omega)
    by_cases hlt : j < p
    · have j1 : (j : Int) < (s.size : Int) := by omega
      have x0 := fun wx => index_bt s j (by omega) wx
      have hc := ltr_at.1 (HP.out.all j hlt)
      have hb := bt_lt s j
      by_cases h65 : 65 ≤ bt s j ∧ bt s j ≤ 90
      · have n1 : (65 : Int) ≤ ((bt s j : Nat) : Int) := by omega
        have n2 : ((bt s j : Nat) : Int) ≤ 90 := by omega
        generalize ((bt s j : Nat) : Int) = B at *
        clear hc hb h65
        go_wp2_with fail
        go_roundw
        case rel => exact ⟨j + 1, by omega, by go_num, trivial⟩
        case measure => simp [RowKit.intOf]; omega
      · have n1 : ¬ (65 : Int) ≤ ((bt s j : Nat) : Int) := by omega
        have n3 : (48 : Int) ≤ ((bt s j : Nat) : Int) := by omega
        have n4 : ((bt s j : Nat) : Int) ≤ 57 := by omega
        generalize ((bt s j : Nat) : Int) = B at *
        clear hc hb h65
        go_wp2_with fail
        go_roundw
        case rel => exact ⟨j + 1, by omega, by go_num, trivial⟩
        case measure => simp [RowKit.intOf]; omega
    · obtain rfl : j = p := by omega
      by_cases hsz : j < s.size
      · have j1 : (j : Int) < (s.size : Int) := by omega
        have x0 := fun wx => index_bt s j hsz wx
        have hc := ltr_no.1 (HP.out.stop hsz)
        have hb := bt_lt s j
        by_cases h65 : 65 ≤ bt s j
        · have n1 : (65 : Int) ≤ ((bt s j : Nat) : Int) := by omega
          have n2 : ¬ ((bt s j : Nat) : Int) ≤ 90 := by omega
          have n3 : (48 : Int) ≤ ((bt s j : Nat) : Int) := by omega
          have n4 : ¬ ((bt s j : Nat) : Int) ≤ 57 := by omega
          generalize ((bt s j : Nat) : Int) = B at *
          clear hc hb h65
          go_wp2_with fail
          go_ret
          exact ⟨rfl, rfl⟩
        · have n1 : ¬ (65 : Int) ≤ ((bt s j : Nat) : Int) := by omega
          by_cases h48 : 48 ≤ bt s j
          · have n3 : (48 : Int) ≤ ((bt s j : Nat) : Int) := by omega
            have n4 : ¬ ((bt s j : Nat) : Int) ≤ 57 := by omega
            generalize ((bt s j : Nat) : Int) = B at *
            clear hc hb h65 h48
            go_wp2_with fail
            go_ret
            exact ⟨rfl, rfl⟩
          · have n3 : ¬ (48 : Int) ≤ ((bt s j : Nat) : Int) := by omega
            generalize ((bt s j : Nat) : Int) = B at *
            clear hc hb h65 h48
            go_wp2_with fail
            go_ret
            exact ⟨rfl, rfl⟩
      · have j1 : ¬ (j : Int) < (s.size : Int) := by omega
        go_wp2_with fail
        go_ret
        exact ⟨rfl, rfl⟩
theorem str_ne {s : ByteArray} (h : s.size ≠ 0) : ¬ s.toList = [] ∧ s.toList.isEmpty = false := by
  have m1 : ¬ s.toList = [] := fun e => by
    rw [ByteArray.toList_eq] at e
    apply h
    have : s.data.toList.length = 0 := by rw [e]; rfl
    rwa [size_list] at this
  exact ⟨m1, by rw [Bool.eq_false_iff]; intro e; exact m1 (List.isEmpty_iff.1 e)⟩
theorem bt_lst (s : ByteArray) (j : Nat) (h : j < s.data.toList.length) : (s.data.toList[j]).toNat = bt s j := by
  unfold bt
  rw [List.getD_eq_getElem?_getD, List.getElem?_eq_getElem h]; rfl
theorem pp_all (s : ByteArray) (p : Nat) (h : Pp s p) : (s.data.toList.all fun c => ltr c.toNat) = decide (p = s.size) := by
  rw [Bool.eq_iff_iff, List.all_eq_true, decide_eq_true_iff]
  constructor
  · intro ha
    rcases Nat.lt_or_ge p s.size with hlt | hge
    · have h1 := h.stop hlt
      have hl : p < s.data.toList.length := by rw [size_list]; exact hlt
      have h2 := ha _ (List.getElem_mem hl)
      rw [bt_lst s p hl] at h2
      rw [h1] at h2; cases h2
    · have := h.le; omega
  · rintro rfl x hx
    obtain ⟨j, hj, rfl⟩ := List.getElem_of_mem hx
    have := h.all j (by rw [size_list] at hj; exact hj)
    rw [bt_lst s j hj]; exact this
set_option maxRecDepth 100000 in
theorem named_any (v : Int) (s : ByteArray) (w : World) (hs : s.size ≤ 4000) : Calls Try.prog 18 #[.int .i64 v, .string s] w fun e w' => e = .returned (.bool (nmd v s.data.toList)) ∧ w = w' := by
  obtain ⟨p, hp⟩ := pp_ex s
  have HP := Lib.hid (fun W => proper_any s p W hs hp)
  have HL := Lib.hid (fun W => letters_any v W)
  have hN : nmd v s.data.toList = (decide (0 < s.size ∧ s.size = ltrs v) && decide (p = s.size)) := by unfold nmd; rw [size_list, pp_all s p hp]
  generalize nmd v s.data.toList = R at *
  generalize ltrs v = L at *
  clear hp
  by_cases h0 : s = ⟨#[]⟩
  · subst h0
    obtain rfl : R = false := by rw [hN, decide_eq_false (fun h => Nat.lt_irrefl 0 h.1)]; rfl
    clear hN HP HL
    go_enter Try.func18, Try.ntmps18
    go_wp2_with fail
    go_ret
    exact ⟨rfl, rfl⟩
  have hz : 0 < s.size := by
    rcases Nat.eq_zero_or_pos s.size with h | h
    · exact absurd (ByteArray.size_eq_zero_iff.1 h) h0
    · exact h
  obtain ⟨m1, m2⟩ := str_ne (s := s) (by omega)
  by_cases hL : s.size = L
  · have n1 : ((s.size : Int) == (L : Int)) = true := by rw [beq_iff_eq]; omega
    by_cases hp : p = s.size
    · have n2 : ((p : Int) == (s.size : Int)) = true := by rw [beq_iff_eq]; omega
      obtain rfl : R = true := by rw [hN]; simp [hL, hp]; omega
      clear hN hL hp hz h0
      go_enter Try.func18, Try.ntmps18
      go_wp2_with (first | (go_at_call 16; refine (HL.out _).mono ?_; rintro e1 w1 ⟨rfl, rfl⟩) | (go_at_call 35; refine (HP.out _).mono ?_; rintro e2 w2 ⟨rfl, rfl⟩))
      go_ret
      exact ⟨rfl, rfl⟩
    · have n2 : ((p : Int) == (s.size : Int)) = false := (nb (by omega)).1
      obtain rfl : R = false := by rw [hN]; simp [hp]
      clear hN hL hp hz h0
      go_enter Try.func18, Try.ntmps18
      go_wp2_with (first | (go_at_call 16; refine (HL.out _).mono ?_; rintro e1 w1 ⟨rfl, rfl⟩) | (go_at_call 35; refine (HP.out _).mono ?_; rintro e2 w2 ⟨rfl, rfl⟩))
      go_ret
      exact ⟨rfl, rfl⟩
  · have n1 : ((s.size : Int) == (L : Int)) = false := (nb (by omega)).1
    obtain rfl : R = false := by rw [hN]; simp [hL]
    clear hN hL hz h0
    go_enter Try.func18, Try.ntmps18
    go_wp2_with (first | (go_at_call 16; refine (HL.out _).mono ?_; rintro e1 w1 ⟨rfl, rfl⟩) | (go_at_call 35; refine (HP.out _).mono ?_; rintro e2 w2 ⟨rfl, rfl⟩))
    go_ret
    exact ⟨rfl, rfl⟩
end Go.Proofs.Ytkhajafjieofhaa.fl
