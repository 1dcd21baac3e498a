/- The walk of the law OctetJoins of layer 1. -/
import Derived.Test.YtkhcmgnempjjcaaShelf
import Derived.Test.YtkhcmgnempjjcaaOct9
import Derived.Test.YtkhcmgnempjjcaaOct5
import Derived.Lib.Join
namespace Go.Proofs.Ytkhcmgnempjjcaa
open Go.RowKit Go.PlainAid
set_option linter.unusedVariables false
theorem join_flat : ∀ xs : List (List UInt8), Lib.join xs [] = xs.flatten
  | [] => rfl
  | x :: r => by rw [Lib.join_cons]; simp [Lib.joinTail]
/-- How many bytes the first j texts have. -/
def pre (xs : List ByteArray) (j : Nat) : Nat := ((xs.take j).map (·.size)).sum
theorem pre_zero (xs : List ByteArray) : pre xs 0 = 0 := by simp [pre]
theorem pre_succ (xs : List ByteArray) (j : Nat) (h : j < xs.length) : pre xs (j + 1) = pre xs j + (xs.getD j ByteArray.empty).size := by
  unfold pre
  rw [List.take_add_one, List.getElem?_eq_getElem h, List.map_append, List.sum_append]
  simp only [Option.toList, List.map_cons, List.map_nil, List.sum_cons, List.sum_nil, List.getD_eq_getElem?_getD, List.getElem?_eq_getElem h, Option.getD_some, Nat.add_zero]
theorem pre_bound (xs : List ByteArray) (B : Nat) : ∀ j, j ≤ xs.length → (∀ i, i < j → (xs.getD i ByteArray.empty).size ≤ B) → pre xs j ≤ j * B
  | 0, _, _ => by rw [pre_zero]; omega
  | j + 1, h, hb => by
    rw [pre_succ xs j (by omega), Nat.succ_mul]
    have := pre_bound xs B j (by omega) (fun i hi => hb i (by omega))
    have := hb j (by omega)
    omega
theorem flat_len (l : List ByteArray) : (l.map (·.data.toList)).flatten.length = (l.map (·.size)).sum := by
  induction l with
  | nil => rfl
  | cons x l ih => simp [ih]
theorem agree_of (T p : ByteArray) (A B : List UInt8) (k : Nat) (h : T.data.toList = A ++ (p.data.toList ++ B)) (hk : A.length = k) : Agree T p k p.size := by
  have hT : T.size = A.length + (p.size + B.length) := by
    have h1 := congrArg List.length h
    rw [List.length_append, List.length_append, Array.length_toList, Array.length_toList] at h1
    exact h1
  refine ⟨Nat.le_refl _, by omega, fun i hi => ?_, fun h => absurd h (by omega)⟩
  have h1 : k + i < T.size := by omega
  rw [← get_bt T (k + i) h1, ← get_bt p i hi]
  have e1 : T[k + i] = T.data.toList[k + i]'(by rw [Array.length_toList]; exact h1) := rfl
  have e2 : p[i] = p.data.toList[i]'(by rw [Array.length_toList]; exact hi) := rfl
  have hi' : i < p.data.toList.length := by rw [Array.length_toList]; exact hi
  have e3 : T.data.toList[k + i]'(by rw [Array.length_toList]; exact h1) = p.data.toList[i]'hi' := by
    have : T.data.toList[k + i]? = p.data.toList[i]? := by
      rw [h, List.getElem?_append_right (by omega), hk, Nat.add_sub_cancel_left, List.getElem?_append_left hi']
    rw [List.getElem?_eq_getElem (by rw [Array.length_toList]; exact h1), List.getElem?_eq_getElem hi'] at this
    exact Option.some.inj this
  rw [e1, e2, e3]
theorem agree_flat (T : ByteArray) (xs : List ByteArray) (hT : T.data.toList = (xs.map (·.data.toList)).flatten) (j : Nat) (hj : j < xs.length) : Agree T (xs.getD j ByteArray.empty) (pre xs j) (xs.getD j ByteArray.empty).size := by
  have e : xs.getD j ByteArray.empty = xs[j] := by simp [List.getD_eq_getElem?_getD, List.getElem?_eq_getElem hj]
  rw [e]
  refine agree_of T xs[j] ((xs.take j).map (·.data.toList)).flatten ((xs.drop (j + 1)).map (·.data.toList)).flatten (pre xs j) ?_ (flat_len _)
  have hx : xs = xs.take j ++ xs[j] :: xs.drop (j + 1) := by rw [← List.drop_eq_getElem_cons hj, List.take_append_drop]
  rw [hT]
  generalize xs.take j = A at hx ⊢
  generalize xs.drop (j + 1) = B at hx ⊢
  generalize xs[j] = x at hx ⊢
  rw [hx]
  simp
theorem size_flat (T : ByteArray) (xs : List ByteArray) (hT : T.data.toList = (xs.map (·.data.toList)).flatten) : T.size = pre xs xs.length := by
  have h1 := congrArg List.length hT
  rw [Array.length_toList, flat_len] at h1
  unfold pre
  rw [List.take_length]
  exact h1
set_option maxRecDepth 100000 in
theorem joins_empty (p : Option Addr) (cap : Nat) (T : ByteArray) (w : World) (hT : T.size = 0) (hj : ∀ w, Calls Try.prog 29 #[.slice p 0 cap] w fun e w' => e = .returned (.string T) ∧ Below w.heap.size w w') :
    Calls Try.prog 6 #[.slice p 0 cap] w fun e w' => e = .returned (.bool true) ∧ Below w.heap.size w w' := by
  have HJ := Lib.hid hj
  have HTS := Lib.hid hT
  have heq : ((T.size : Int) == 0) = true := by rw [hT]; rfl
  have hTm : T.size ≤ maxLen := by rw [hT]; decide
  clear hj hT
  go_enter Try.func6, Try.ntmps6
  go_wp2_with fail
  refine wp_loop_rounds 1 ?_
  rw [rounds_succ]
  go_wp2_with (first | (go_at_call 29; refine (HJ.out _).mono ?_; rintro e1 w1 ⟨rfl, hb1⟩) | (go_at_call 15; refine (read_any _ _).mono ?_; rintro e2 w2 ⟨rfl, hR, hb2⟩; have R2 := Lib.hid hR; clear hR))
  have HAT : Hid (∀ w', Rd w' w1.heap.size T 0 0 0 0 → Calls Try.prog 28 #[.pointer (some ⟨w1.heap.size, 0, none⟩)] w' fun e2 w2 => e2 = .returned (.int .i64 0) ∧ w' = w2) := Lib.hid (fun w' h => by
    have := at_on w' w1.heap.size T 0 0 0 0 h (by omega) hTm (by omega) (by omega)
    rwa [plc_small (by omega)] at this)
  refine wp_loop_rounds 1 ?_
  rw [rounds_succ]
  go_wp2_with (first | (go_at_call 16; refine (awake_any _).mono ?_; rintro e3 w3 ⟨rfl, hb3⟩; have R3 := Lib.hid (R2.out.below hb3 R2.out.lt)) | (go_at_call 19; refine (left_l _ _ _ 0 0 _ _ R3.out HTS.out.symm hTm).mono ?_; rintro e4 w4 ⟨rfl, hb4⟩; have R4 := Lib.hid (R3.out.below hb4 R3.out.lt)) | (go_at_call 28; refine (HAT.out _ R4.out).mono ?_; rintro e5 w5 ⟨rfl, rfl⟩) | (go_at_call 20; refine (fault_some _ _ _ _ R4.out.lt R4.out.c3 R4.out.c4).mono ?_; rintro e6 w6 ⟨rfl, hb6⟩) | (go_at_call 21; refine (bad_any _ _ _).mono ?_; rintro e7 w7 ⟨rfl, hb7⟩))
  go_ret
  have g2 := hb1.trans (hb2.mono hb1.size)
  have g3 := g2.trans (hb3.mono g2.size)
  have g4 := g3.trans (hb4.mono g3.size)
  have g6 := g4.trans (hb6.mono g4.size)
  exact ⟨rfl, g6.trans (hb7.mono g6.size)⟩
set_option maxRecDepth 100000 in
set_option maxHeartbeats 1000000 in
theorem joins_walk (a : Addr) (len cap : Nat) (xs : List ByteArray) (w : World) (hlen : xs.length = len) (hlc : len ≤ cap) (hcap : cap ≤ maxLen) (hcells : ∀ i, i < len → w.cell? (a.add i) = some (.string (xs.getD i ByteArray.empty)))
    (hsz : ∀ i, i < len → (xs.getD i ByteArray.empty).size ≤ maxLen)
    (hj : len ≤ 60 → pre xs len ≤ 30000 → ∃ T : ByteArray, T.data.toList = (xs.map (·.data.toList)).flatten ∧ Calls Try.prog 29 #[.slice (some a) len cap] w fun e w' => e = .returned (.string T) ∧ Below w.heap.size w w') :
    Calls Try.prog 6 #[.slice (some a) len cap] w fun e w' => e = .returned (.bool true) ∧ Below w.heap.size w w' := by
  unfold maxLen at hcap hsz
  have HL := Lib.hid hlen; have HC := Lib.hid hcells; have HJ := Lib.hid hj; have HSZ := Lib.hid hsz
  clear hlen hcells hj hsz
  by_cases hmany : 60 < len
  · go_enter Try.func6, Try.ntmps6
    go_wp2_with (go_at_call 16; refine (awake_any _).mono ?_; rintro e1 w1 ⟨rfl, hb1⟩)
    go_ret
    exact ⟨rfl, hb1⟩
  go_enter Try.func6, Try.ntmps6
  go_wp2_with fail
  go_loop [3, 16] (fun s i => ∃ j : Nat, j ≤ len ∧ i = .int .i64 j ∧ s = .int .i64 ((pre xs j : Nat) : Int) ∧ ∀ i, i < j → (xs.getD i ByteArray.empty).size ≤ 500) (fun _ i => len - (intOf i).toNat)
  case atStart => exact ⟨0, Nat.zero_le _, rfl, by rw [pre_zero]; rfl, fun i hi => by omega⟩
  case round =>
    obtain ⟨j, hj, rfl, rfl, hall⟩ := hrel
    have hpb : pre xs j ≤ 30000 := by
      have h1 := pre_bound xs 500 j (by have := HL.out; omega) hall
      have : j * 500 ≤ 60 * 500 := Nat.mul_le_mul_right 500 (by omega)
      omega
    have HALL := Lib.hid hall
    clear hall
    by_cases hlt : j < len
    · have hc := HC.out j hlt
      have hsj := HSZ.out j hlt
      have hps := Lib.hid (pre_succ xs j (by have := HL.out; omega))
      obtain ⟨x, hx⟩ : ∃ x, x = xs.getD j ByteArray.empty := ⟨_, rfl⟩
      rw [← hx] at hc hsj hps
      obtain ⟨P, hP⟩ : ∃ P, P = pre xs j := ⟨_, rfl⟩
      rw [← hP] at hpb hps ⊢
      have HX := Lib.hid hx
      clear hx hP
      by_cases hbig : 500 < x.size
      · go_wp2_with (go_at_call 16; refine (awake_any _).mono ?_; rintro e1 w1 ⟨rfl, hb1⟩)
        go_ret
        exact ⟨rfl, hb1⟩
      · go_wp2_with fail
        go_round
        case rel => exact ⟨j + 1, by omega, by go_num, int_eq (by rw [hps.out]; simp), fun i hi => by
          by_cases h : i = j
          · subst h; rw [← HX.out]; omega
          · exact HALL.out i (by omega)⟩
        case measure => simp [intOf]; omega
    · obtain rfl : j = len := by omega
      clear hlt
      obtain ⟨T, hT, hjoin⟩ := HJ.out (by omega) hpb
      have HT := Lib.hid hT; have HJN := Lib.hid hjoin
      have hTs := Lib.hid (size_flat T xs hT)
      clear hT hjoin
      have hTs2 : Hid (T.size = pre xs j) := Lib.hid (by have := hTs.out; rw [HL.out] at this; exact this)
      have hTm : T.size ≤ maxLen := by unfold maxLen; have := hTs2.out; omega
      obtain ⟨P, hP⟩ : ∃ P, P = pre xs j := ⟨_, rfl⟩
      rw [← hP] at hpb hTs2 ⊢
      have HP := Lib.hid hP
      clear hP
      have HAT : Hid (∀ w' b, Rd w' b T P 0 0 0 → Calls Try.prog 28 #[.pointer (some ⟨b, 0, none⟩)] w' fun e2 w2 => e2 = .returned (.int .i64 P) ∧ w' = w2) := Lib.hid (fun w' b h => by
        have := at_on w' b T P 0 0 0 h (by have := hTs2.out; omega) hTm (by omega) (by omega)
        rwa [plc_small (by omega), Int.zero_add] at this)
      go_wp2_with (first | (go_at_call 29; refine HJN.out.mono ?_; rintro e1 w1 ⟨rfl, hb1⟩) | (go_at_call 15; refine (read_any _ _).mono ?_; rintro e2 w2 ⟨rfl, hR, hb2⟩; have R2 := Lib.hid hR; clear hR))
      have B2 := Lib.hid (hb1.trans (hb2.mono hb1.size))
      have hRB := hb1.size
      obtain ⟨R, hRe⟩ : ∃ R, R = w1.heap.size := ⟨_, rfl⟩
      rw [← hRe] at R2 hRB ⊢
      clear hRe hb1 hb2
      go_loopw [35] (fun i wr => ∃ k : Nat, k ≤ j ∧ i = .int .i64 k ∧ Rd wr R T ((pre xs k : Nat) : Int) 0 0 0 ∧ Below w.heap.size w wr) (fun i _ => j - (intOf i).toNat)
      case atStart => exact ⟨0, Nat.zero_le _, rfl, by rw [pre_zero]; exact R2.out, B2.out⟩
      case round =>
        obtain ⟨k, hk, rfl, hR, hB⟩ := hrel
        have RR := Lib.hid hR; have BB := Lib.hid hB
        clear hR hB R2 B2
        by_cases hlt : k < j
        · have hc0 := HC.out k hlt
          have hc : wr.cell? (a.add k) = some (.string (xs.getD k ByteArray.empty)) := by
            rw [BB.out.cell (World.block_lt_of_cell? w _ hc0)]; exact hc0
          have hg := Lib.hid (agree_flat T xs HT.out k (by have := HL.out; omega))
          have hps := Lib.hid (pre_succ xs k (by have := HL.out; omega))
          obtain ⟨x, hx⟩ : ∃ x, x = xs.getD k ByteArray.empty := ⟨_, rfl⟩
          rw [← hx] at hc hg hps
          clear hc0 hx
          go_wp2_with (go_at_call 30; refine (want_ok _ _ _ _ _ _ _ _ RR.out hg.out rfl hTm).mono ?_; rintro e3 w3 ⟨rfl, hR3, hU3⟩; have R3 := Lib.hid hR3; clear hR3)
          go_roundw
          case rel => exact ⟨k + 1, by omega, by go_num, by rw [hps.out]; exact R3.out, Upd.below BB.out hU3 hRB BB.out.size⟩
          case measure => simp [intOf]; omega
        · obtain rfl : k = j := by omega
          clear hlt
          have heq : ((T.size : Int) == (P : Int)) = true := by rw [hTs2.out]; simp
          have R2 : Hid (Rd wr R T P 0 0 0) := Lib.hid (by have := RR.out; rw [← HP.out] at this; exact this)
          go_wp2_with (first | (go_at_call 16; refine (awake_any _).mono ?_; rintro e3 w3 ⟨rfl, hb3⟩; have R3 := Lib.hid (R2.out.below hb3 R2.out.lt)) | (go_at_call 19; refine (left_l _ _ _ _ 0 _ _ R3.out (by have := hTs2.out; omega) hTm).mono ?_; rintro e4 w4 ⟨rfl, hb4⟩; have R4 := Lib.hid (R3.out.below hb4 R3.out.lt)) | (go_at_call 28; refine (HAT.out _ _ R4.out).mono ?_; rintro e5 w5 ⟨rfl, rfl⟩) | (go_at_call 20; refine (fault_some _ _ _ _ R4.out.lt R4.out.c3 R4.out.c4).mono ?_; rintro e6 w6 ⟨rfl, hb6⟩) | (go_at_call 21; refine (bad_any _ _ _).mono ?_; rintro e7 w7 ⟨rfl, hb7⟩))
          go_ret
          have g3 := BB.out.trans (hb3.mono BB.out.size)
          have g4 := g3.trans (hb4.mono g3.size)
          have g6 := g4.trans (hb6.mono g4.size)
          exact ⟨rfl, g6.trans (hb7.mono g6.size)⟩
end Go.Proofs.Ytkhcmgnempjjcaa
