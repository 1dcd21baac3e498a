/- The document's own reader of layer 1, its other calls: contracts. -/
import Derived.Test.YtkhcmgnempjjcaaOct12
namespace Go.Proofs.Ytkhcmgnempjjcaa
open Go.RowKit Go.PlainAid
set_option linter.unusedVariables false
theorem mPeek_off (t : ByteArray) (k bs e at' n : Int) (w : World) (he : (e != 0) = true) :
    Calls Try.prog 41 #[.agg #[.string t, .int .i64 k, .int .i64 bs, .int .i64 e, .int .i64 at'], .int .i64 n] w fun e' w' => e' = .returned (.string ⟨#[]⟩) ∧ Below w.heap.size w w' := by
  by_cases h1 : 0 < n
  all_goals
    go_enter Try.func41, Try.ntmps41
    go_wp2_with (go_at_call 27; refine (mLeft_off _ _ _ _ _ _ he).mono ?_; rintro e1 w1 ⟨rfl, hb1⟩; have g1 : Below w.heap.size w w1 := ((Below.refl w.heap.size w).alloc (Nat.le_refl _) _).trans (hb1.mono (by simp)); have M1 := Lib.hid ((mb_new w t k bs e at').below hb1 (by simp)); obtain ⟨_, c0, c1, c2, c3, c4, fr⟩ := M1.out)
  · refine (mLeft_off _ _ _ _ _ _ he).mono ?_
    rintro e1 w2 ⟨rfl, hb2⟩
    have g2 := g1.trans (hb2.mono g1.size)
    obtain ⟨_, c0, c1, c2, c3, c4, fr⟩ := M1.out.below hb2 M1.out.lt
    go_wp2
    go_ret
    exact ⟨rfl, g2⟩
  all_goals
    go_ret
    exact ⟨rfl, g1⟩
theorem mPeek_on (t : ByteArray) (k m l : Nat) (bs at' n : Int) (w : World) (hk : k + l = t.size) (ht : t.size ≤ 4000000000) (hn : n < 0 ∧ m = 0 ∨ n = m ∧ m ≤ l ∨ (l : Int) < n ∧ m = l) :
    Calls Try.prog 41 #[.agg #[.string t, .int .i64 (k : Int), .int .i64 bs, .int .i64 0, .int .i64 at'], .int .i64 n] w fun e' w' => e' = .returned (.string (t.extract k (k + m))) ∧ Below w.heap.size w w' := by
  have HK := Lib.hid hk
  have hkm : k + m ≤ t.size := by omega
  have hsl := slice_km t k m hkm
  have hsl0 := slice_ab t k k (Nat.le_refl _) (by omega)
  clear hk
  rcases hn with ⟨hn, hm⟩ | ⟨hn, hm⟩ | ⟨hn, hm⟩
  · subst hm
    have hnl : ¬ (l : Int) < n := by omega
    go_enter Try.func41, Try.ntmps41
    go_wp2_with (go_at_call 27; refine (mLeft_on _ _ _ _ _ _ HK.out ht).mono ?_; rintro e1 w1 ⟨rfl, hb1⟩; have g1 : Below w.heap.size w w1 := ((Below.refl w.heap.size w).alloc (Nat.le_refl _) _).trans (hb1.mono (by simp)); have M1 := Lib.hid ((mb_new w t k bs 0 at').below hb1 (by simp)); obtain ⟨_, c0, c1, c2, c3, c4, fr⟩ := M1.out)
    go_ret
    exact ⟨ret_str (by simp), g1⟩
  · subst hn
    have hnl : ¬ (l : Int) < (m : Int) := by omega
    go_enter Try.func41, Try.ntmps41
    go_wp2_with (go_at_call 27; refine (mLeft_on _ _ _ _ _ _ HK.out ht).mono ?_; rintro e1 w1 ⟨rfl, hb1⟩; have g1 : Below w.heap.size w w1 := ((Below.refl w.heap.size w).alloc (Nat.le_refl _) _).trans (hb1.mono (by simp)); have M1 := Lib.hid ((mb_new w t k bs 0 at').below hb1 (by simp)); obtain ⟨_, c0, c1, c2, c3, c4, fr⟩ := M1.out)
    go_ret
    exact ⟨rfl, g1⟩
  · subst hm
    have hn0 : ¬ n < 0 := by omega
    go_enter Try.func41, Try.ntmps41
    go_wp2_with (fail)
    refine (mLeft_on _ _ _ _ _ _ HK.out ht).mono ?_
    rintro e1 w1 ⟨rfl, hb1⟩
    have g1 : Below w.heap.size w w1 := ((Below.refl w.heap.size w).alloc (Nat.le_refl _) _).trans (hb1.mono (by simp))
    have M1 := Lib.hid ((mb_new w t k bs 0 at').below hb1 (by simp))
    obtain ⟨_, c0, c1, c2, c3, c4, fr⟩ := M1.out
    go_wp2_with (fail)
    refine (mLeft_on _ _ _ _ _ _ HK.out ht).mono ?_
    rintro e1 w2 ⟨rfl, hb2⟩
    have g2 := g1.trans (hb2.mono g1.size)
    obtain ⟨_, c0, c1, c2, c3, c4, fr⟩ := M1.out.below hb2 M1.out.lt
    go_wp2
    go_ret
    exact ⟨rfl, g2⟩
theorem mNumber_any (t : ByteArray) (w : World) (ht : t.size ≤ 8) :
    Calls Try.prog 42 #[.string t] w fun e' w' => e' = .returned (.int .u64 (num t.data.toList)) ∧ w = w' := by
  go_enter Try.func42, Try.ntmps42
  go_wp2
  go_loop [3, 4] (fun n i => ∃ k : Nat, k ≤ t.size ∧ i = .int .i64 k ∧ n = .int .u64 (num (t.data.toList.take k))) (fun _ i => t.size - (intOf i).toNat)
  case atStart => exact ⟨0, Nat.zero_le _, rfl, rfl⟩
  case round =>
    obtain ⟨k, hk, rfl, rfl⟩ := hrel
    by_cases hlt : k < t.size
    · have hb : num (t.data.toList.take k) ≤ 72057594037927935 := by
        have h1 := num_le (t.data.toList.take k) k (List.length_take_le _ _)
        have h2 := pow_le7 k (by omega)
        omega
      have hs := num_snoc (t.data.toList.take k) t[k]
      rw [← take_snoc t k hlt] at hs
      obtain ⟨P, hP⟩ : ∃ P, P = num (t.data.toList.take k) := ⟨_, rfl⟩
      have hc := t[k].toNat_lt
      rw [← hP] at hb hs ⊢
      have HS := Lib.hid hs
      clear hs hP
      go_wp2
      go_round
      case rel => exact ⟨k + 1, by omega, by go_num, int_eq (by rw [HS.out]; simp)⟩
      case measure => simp [intOf]; omega
    · go_wp2
      go_ret
      exact ⟨ret_int (by rw [List.take_of_length_le (by simp; omega)]), rfl⟩
set_option maxRecDepth 100000 in
theorem mSafe_ok (t : ByteArray) (k : Nat) (k' bs e at' e' a' : Int) (nx : ByteArray) (w : World) (hs : nx.size ≤ 4) (hc : ∀ i, i < nx.size → bt nx i < 128) (hk : k ≤ t.size) (hts : t.size ≤ 4000000000) (z0 : 0 ≤ bs) (z1 : bs ≤ 4000000000000)
    (hT : ∀ w, Calls Try.prog 40 #[.agg #[.string t, .int .i64 (k : Int), .int .i64 bs, .int .i64 e, .int .i64 at'], .int .i64 4] w fun e2 w' => e2 = .returned (.tuple #[.agg #[.string t, .int .i64 k', .int .i64 bs, .int .i64 e', .int .i64 a'], .string nx]) ∧ Below w.heap.size w w') :
    Calls Try.prog 43 #[.agg #[.string t, .int .i64 (k : Int), .int .i64 bs, .int .i64 e, .int .i64 at']] w fun e2 w' => e2 = .returned (.tuple #[.agg #[.string t, .int .i64 k', .int .i64 bs, .int .i64 e', .int .i64 a'], .int .i64 (num7 nx.data.toList)]) ∧ Below w.heap.size w w' := by
  have HT := Lib.hid hT
  have HC := Lib.hid hc
  clear hT hc
  go_enter Try.func43, Try.ntmps43
  go_wp2_with (go_at_call 40; refine (HT.out _).mono ?_; rintro e1 w1 ⟨rfl, hb1⟩; have l1 : w.heap.size + 1 + 1 ≤ w1.heap.size := (by have := hb1.size; simpa using this); have q1 : w.heap.size + 1 < w1.heap.size := l1; have q0 : w.heap.size < w1.heap.size := (by omega); have g1 : Below w.heap.size w w1 := (((Below.refl w.heap.size w).alloc (Nat.le_refl _) _).alloc (by simp) _).trans (hb1.mono (by simp; omega)); have M1 := Lib.hid (((mb_new w t (k : Int) bs e at').alloc (.cells #[.string ⟨#[]⟩, .int .i64 0, .int .i64 0, .int .i64 0, .int .i64 0] 43)).below hb1 (by simp; omega)); obtain ⟨_, c0, c1, c2, c3, c4, fr⟩ := M1.out; have M2 := Lib.hid ((mb_new (w.alloc (.cells #[.string t, .int .i64 (k : Int), .int .i64 bs, .int .i64 e, .int .i64 at'] 43)) ⟨#[]⟩ 0 0 0 0).below hb1 (by simp)); obtain ⟨_, d0, d1, d2, d3, d4, fs⟩ := M2.out; simp only [World.size_alloc] at d0 d1 d2 d3 d4 fs)
  go_loop [7, 8] (fun n i => ∃ j : Nat, j ≤ nx.size ∧ i = .int .i64 j ∧ n = .int .i64 (num7 (nx.data.toList.take j))) (fun _ i => nx.size - (intOf i).toNat)
  case atStart => exact ⟨0, Nat.zero_le _, rfl, rfl⟩
  case round =>
    obtain ⟨j, hj, rfl, rfl⟩ := hrel
    by_cases hlt : j < nx.size
    · have hb : ((nx[j].toNat : Nat) : Int) < 128 := by rw [get_bt]; exact HC.out j hlt
      have hlt7 := num7_lt 3 (nx.data.toList.take j) (by simp; omega) (fun c hm => by
        obtain ⟨i, hi, rfl⟩ := List.mem_iff_getElem.1 hm
        have hi' : i < nx.size := by simp at hi; omega
        have := HC.out i hi'
        rw [← get_bt nx i hi'] at this
        rw [List.getElem_take]
        have e : nx.data.toList[i]'(by simpa using hi') = nx[i] := rfl
        rw [e]; omega)
      have hs := num7_snoc (nx.data.toList.take j) nx[j]
      rw [← take_snoc nx j hlt] at hs
      obtain ⟨P, hP⟩ : ∃ P, P = num7 (nx.data.toList.take j) := ⟨_, rfl⟩
      rw [← hP] at hlt7 hs ⊢
      have HS := Lib.hid hs
      have hP3 : P ≤ 2097151 := by omega
      clear hs hP hlt7
      go_wp2
      go_round
      case rel => exact ⟨j + 1, by omega, by go_num, int_eq (by rw [HS.out]; simp)⟩
      case measure => simp [intOf]; omega
    · go_wp2
      exact bodyPost_ret (v := .tuple #[.agg #[.string t, .int .i64 k', .int .i64 bs, .int .i64 e', .int .i64 a'], .int .i64 (num7 (nx.data.toList.take j))]) (by simp [results, Try.results43, go_sem, d0, d1, d2, d3, d4, q1]) rfl ⟨by rw [List.take_of_length_le (by simp; omega)], by repeat (first | (with_reducible exact g1) | (with_reducible exact Below.refl _ _) | (with_reducible refine Below.setCell ?_ (by simp) _) | (with_reducible refine Below.alloc ?_ (by simp; omega) _))⟩
end Go.Proofs.Ytkhcmgnempjjcaa
