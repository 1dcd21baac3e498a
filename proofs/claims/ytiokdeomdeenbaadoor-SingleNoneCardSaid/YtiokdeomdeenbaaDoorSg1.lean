/- The document's answer of layer 5: Nth, Sign, Byte: contracts. -/
import Derived.Test.YtiokdeomdeenbaaDoorSg0
namespace Go.Proofs.YtiokdeomdeenbaaDoor.sg
open Go.RowKit Go.Lib
set_option linter.unusedVariables false
theorem ret_int {k : IntKind} {a b : Int} (h : a = b) : Ending.returned (.int k a) = .returned (.int k b) := by rw [h]
set_option maxRecDepth 100000 in
set_option maxHeartbeats 1000000 in
theorem nth_any (L : List Nat) (s : ByteArray) (hs : pt.scan s = (L, none)) (hz : s.size ≤ 2000) (n : Nat) (hn : n < L.length) (w : World) :
    Calls Tryd.prog 54 #[.string s, .int .i64 n] w fun e w' => e = .returned (.int .i32 ((L.getD n 0 : Nat) : Int)) ∧ Below w.heap.size w w' := by
  obtain ⟨R, hR⟩ : ∃ R, R = L[n]? := ⟨_, rfl⟩
  have hs1 : (pt.sc s s.size 0).1 = L := by have := congrArg Prod.fst hs; exact this
  have hs2 : (pt.sc s s.size 0).2 = none := by have := congrArg Prod.snd hs; exact this
  have hln : L.length ≤ 2000 := by rw [← hs1]; have := pt.sc_len s s.size 0; omega
  have hRn : Hid (L[n]? = R) := Lib.hid hR.symm
  have hRs : Hid (R = some (L.getD n 0)) := Lib.hid (by rw [hR, List.getElem?_eq_getElem hn]; simp [List.getD, List.getElem?_eq_getElem hn])
  have H1 := Lib.hid hs1; have H2 := Lib.hid hs2
  clear hs hs1 hs2 hR
  generalize L.getD n 0 = V at *
  go_enter Tryd.func54, Tryd.ntmps54
  go_wp2_with fail
  go_loopw [1, 5] (fun m i wr => ∃ (pos f k : Nat), pos ≤ s.size ∧ s.size ≤ pos + f ∧ k ≤ n ∧ m = .int .i64 k ∧ i = .int .i64 pos ∧ (pt.sc s f pos).1[k]? = R ∧ (pt.sc s f pos).2 = none ∧ Below w.heap.size w wr) (fun m _ _ => (RowKit.intOf m).toNat)
  case atStart => exact ⟨0, s.size, n, Nat.zero_le _, by omega, Nat.le_refl _, rfl, rfl, by rw [H1.out]; exact hRn.out, H2.out, Below.refl _ _⟩
  case round =>
    obtain ⟨pos, f, k, hp, hf, hk, rfl, rfl, hg, h2, hB⟩ := hrel
    have HB := Lib.hid hB
    have hpt : pos < s.size := by
      rcases Nat.lt_or_ge pos s.size with h | h
      · exact h
      · rw [pt.sc_end s f pos (by omega), hRs.out] at hg
        simp at hg
    obtain ⟨f1, rfl⟩ : ∃ f1, f = f1 + 1 := ⟨f - 1, by omega⟩
    cases hb : pt.bad s pos with
    | true => rw [pt.sc_bad s (f1 + 1) pos hpt hf hb] at h2; cases h2
    | false =>
      rw [pt.sc_good s f1 pos hpt hb] at hg h2
      have hat := fun w2 => pt.at_any s pos w2 hpt (by omega)
      rw [hb] at hat
      simp only [Bool.false_eq_true, if_false] at hat
      have hw1 := width_pos s pos
      have hw2 := pt.width_fits s pos hpt
      have hr := rune_le s pos
      have HG := Lib.hid hg; have HH2 := Lib.hid h2
      clear hg h2 hb hB
      generalize Utf8.decode s pos = d at *
      have HAT := Lib.hid hat
      clear hat
      have hd0 : ¬ (d.2 : Int) = 0 := by omega
      cases k with
      | zero =>
        have hV : Hid (d.1 = V) := Lib.hid (by have := HG.out; rw [hRs.out] at this; simpa using this)
        go_wp2_with (go_at_call 58; refine (HAT.out _).mono ?_; rintro e1 w1 ⟨rfl, hb1⟩)
        go_ret
        exact ⟨ret_int (by rw [hV.out]), HB.out.trans (hb1.mono HB.out.size)⟩
      | succ k =>
        have hk0 : ((k + 1 : Nat) : Int) = (k : Int) + 1 := by omega
        rw [hk0]
        have hk1 : ((k : Int) + 1 == 0) = false := beq_eq_false_iff_ne.2 (by omega)
        have hd1 : ((d.2 : Int) == 0) = false := beq_eq_false_iff_ne.2 hd0
        clear hk0
        go_wp2_with (go_at_call 58; refine (HAT.out _).mono ?_; rintro e1 w1 ⟨rfl, hb1⟩)
        go_roundw
        case rel => exact ⟨pos + d.2, f1, k, hw2, by omega, by omega, by go_num, by go_num, by have := HG.out; simpa using this, HH2.out, HB.out.trans (hb1.mono HB.out.size)⟩
        case measure => simp [RowKit.intOf]
set_option maxRecDepth 100000 in
set_option maxHeartbeats 2000000 in
theorem sign_low (c : Int) (n : Nat) (w : World) (hn : n < 256) (h : c = 0 ∨ n < 128) : Calls Tryd.prog 29 #[.int .i64 c, .int .u8 n] w fun e w' => e = .returned (.int .i32 (n : Int)) ∧ Below w.heap.size w w' := by
  have h0 : (0 : Int) ≤ (n : Int) := by omega
  have h1 : (n : Int) ≤ 255 := by omega
  by_cases hc : c = 0
  · subst hc
    go_enter Tryd.func29, Tryd.ntmps29
    go_wp2
    go_ret
    exact ⟨rfl, Below.refl _ _⟩
  · have hc1 : (c == 0) = false := beq_eq_false_iff_ne.2 hc
    have h2 : (n : Int) < 128 := by omega
    clear h hc
    go_enter Tryd.func29, Tryd.ntmps29
    go_wp2
    go_ret
    exact ⟨rfl, Below.refl _ _⟩
set_option maxRecDepth 100000 in
set_option maxHeartbeats 2000000 in
theorem sign_three (n : Nat) (w : World) (hn : n < 256) (h : 128 ≤ n) : Calls Tryd.prog 29 #[.int .i64 3, .int .u8 n] w fun e w' => e = .returned (.int .i32 (sgn 3 n)) ∧ Below w.heap.size w w' := by
  have h1 : (n : Int) ≤ 255 := by omega
  have h2 : 128 ≤ (n : Int) := by omega
  by_cases a1 : n < 176
  · have e : Hid (sgn 3 n = (n : Int) + 912) := Lib.hid (by unfold sgn; rw [if_neg (by omega), if_pos rfl, if_pos a1])
    have a2 : (n : Int) < 176 := by omega
    generalize sgn 3 n = S at *
    go_enter Tryd.func29, Tryd.ntmps29
    go_wp2
    go_ret
    exact ⟨ret_int (by rw [e.out]; omega), Below.refl _ _⟩
  by_cases b1 : n < 224
  · obtain ⟨k, hk⟩ : ∃ k, k = n - 176 := ⟨_, rfl⟩
    have e : Hid (sgn 3 n = ((fraL.getD k 0 : Nat) : Int)) := Lib.hid (by unfold sgn; rw [if_neg (by omega), if_pos rfl, if_neg a1, if_pos b1, hk])
    have a2 : ¬ (n : Int) < 176 := by omega
    have a3 : (n : Int) < 224 := by omega
    have hkl : k < fraL.length := by have : fraL.length = 48 := rfl; omega
    have HN := Lib.hid (fun s hs hz w2 => nth_any fraL s hs hz k hkl w2)
    rw [show (k : Int) = (n : Int) - 176 by omega] at HN
    generalize sgn 3 n = S at *
    clear hk hkl a1 b1
    go_enter Tryd.func29, Tryd.ntmps29
    go_wp2_with (go_at_call 54; refine (HN.out _ (by decide +kernel) (by decide +kernel) _).mono ?_; rintro e1 w1 ⟨rfl, hb1⟩)
    go_ret
    exact ⟨ret_int (by rw [e.out]; rfl), hb1⟩
  by_cases d1 : n < 240
  · have e : Hid (sgn 3 n = (n : Int) + 864) := Lib.hid (by unfold sgn; rw [if_neg (by omega), if_pos rfl, if_neg a1, if_neg b1, if_pos d1])
    have a2 : ¬ (n : Int) < 176 := by omega
    have a3 : ¬ (n : Int) < 224 := by omega
    have a4 : (n : Int) < 240 := by omega
    generalize sgn 3 n = S at *
    clear a1 b1 d1 h
    go_enter Tryd.func29, Tryd.ntmps29
    go_wp2
    go_ret
    exact ⟨ret_int (by rw [e.out]; omega), Below.refl _ _⟩
  · obtain ⟨k, hk⟩ : ∃ k, k = n - 240 := ⟨_, rfl⟩
    have e : Hid (sgn 3 n = ((othL.getD k 0 : Nat) : Int)) := Lib.hid (by unfold sgn; rw [if_neg (by omega), if_pos rfl, if_neg a1, if_neg b1, if_neg d1, hk])
    have a2 : ¬ (n : Int) < 176 := by omega
    have a3 : ¬ (n : Int) < 224 := by omega
    have a4 : ¬ (n : Int) < 240 := by omega
    have hkl : k < othL.length := by have : othL.length = 16 := rfl; omega
    have HN := Lib.hid (fun s hs hz w2 => nth_any othL s hs hz k hkl w2)
    rw [show (k : Int) = (n : Int) - 240 by omega] at HN
    generalize sgn 3 n = S at *
    clear hk hkl a1 b1 d1 h
    go_enter Tryd.func29, Tryd.ntmps29
    go_wp2_with (go_at_call 54; refine (HN.out _ (by decide +kernel) (by decide +kernel) _).mono ?_; rintro e1 w1 ⟨rfl, hb1⟩)
    go_ret
    exact ⟨ret_int (by rw [e.out]; rfl), hb1⟩
/-- Where a byte stands among those that differ. -/
theorem sgn_rus (c : Int) (n : Nat) (hc : c = 1 ∨ c = 2) (h : 128 ≤ n) (hx : c = 2 → n ≠ 164 ∧ n ≠ 166 ∧ n ≠ 167 ∧ n ≠ 173 ∧ n ≠ 180 ∧ n ≠ 182 ∧ n ≠ 183 ∧ n ≠ 189) : sgn c n = ((rusL.getD (n - 128) 0 : Nat) : Int) := by
  unfold sgn
  rw [if_neg (by omega), if_neg (by omega), if_neg (by omega), if_neg (by omega), if_neg (by omega), if_neg (by omega), if_neg (by omega), if_neg (by omega), if_neg (by omega), if_neg (by omega)]
set_option maxRecDepth 100000 in
set_option maxHeartbeats 2000000 in
theorem sign_one (n : Nat) (w : World) (hn : n < 256) (h : 128 ≤ n) : Calls Tryd.prog 29 #[.int .i64 1, .int .u8 n] w fun e w' => e = .returned (.int .i32 (sgn 1 n)) ∧ Below w.heap.size w w' := by
  have h1 : (n : Int) ≤ 255 := by omega
  have h2 : 128 ≤ (n : Int) := by omega
  obtain ⟨k, hk⟩ : ∃ k, k = n - 128 := ⟨_, rfl⟩
  have e : Hid (sgn 1 n = ((rusL.getD k 0 : Nat) : Int)) := Lib.hid (by rw [sgn_rus 1 n (.inl rfl) h (fun h => by cases h), hk])
  have hkl : k < rusL.length := by have : rusL.length = 128 := rfl; omega
  have HN := Lib.hid (fun s hs hz w2 => nth_any rusL s hs hz k hkl w2)
  rw [show (k : Int) = (n : Int) - 128 by omega] at HN
  generalize sgn 1 n = S at *
  clear hk hkl h
  go_enter Tryd.func29, Tryd.ntmps29
  go_wp2_with (go_at_call 54; refine (HN.out _ (by decide +kernel) (by decide +kernel) _).mono ?_; rintro e1 w1 ⟨rfl, hb1⟩)
  go_ret
  exact ⟨ret_int (by rw [e.out]; rfl), hb1⟩
set_option maxRecDepth 100000 in
set_option maxHeartbeats 2000000 in
theorem sign_two (n : Nat) (w : World) (hn : n < 256) (h : 128 ≤ n) (hx : n ≠ 164 ∧ n ≠ 166 ∧ n ≠ 167 ∧ n ≠ 173 ∧ n ≠ 180 ∧ n ≠ 182 ∧ n ≠ 183 ∧ n ≠ 189) : Calls Tryd.prog 29 #[.int .i64 2, .int .u8 n] w fun e w' => e = .returned (.int .i32 (sgn 2 n)) ∧ Below w.heap.size w w' := by
  have h1 : (n : Int) ≤ 255 := by omega
  have h2 : 128 ≤ (n : Int) := by omega
  obtain ⟨k, hk⟩ : ∃ k, k = n - 128 := ⟨_, rfl⟩
  have e : Hid (sgn 2 n = ((rusL.getD k 0 : Nat) : Int)) := Lib.hid (by rw [sgn_rus 2 n (.inr rfl) h (fun _ => hx), hk])
  have hkl : k < rusL.length := by have : rusL.length = 128 := rfl; omega
  have HN := Lib.hid (fun s hs hz w2 => nth_any rusL s hs hz k hkl w2)
  rw [show (k : Int) = (n : Int) - 128 by omega] at HN
  have x1 : ((n : Int) == 164) = false := beq_eq_false_iff_ne.2 (by omega)
  have x2 : ((n : Int) == 166) = false := beq_eq_false_iff_ne.2 (by omega)
  have x3 : ((n : Int) == 167) = false := beq_eq_false_iff_ne.2 (by omega)
  have x4 : ((n : Int) == 173) = false := beq_eq_false_iff_ne.2 (by omega)
  have x5 : ((n : Int) == 180) = false := beq_eq_false_iff_ne.2 (by omega)
  have x6 : ((n : Int) == 182) = false := beq_eq_false_iff_ne.2 (by omega)
  have x7 : ((n : Int) == 183) = false := beq_eq_false_iff_ne.2 (by omega)
  have x8 : ((n : Int) == 189) = false := beq_eq_false_iff_ne.2 (by omega)
  generalize sgn 2 n = S at *
  clear hk hkl h hx
  go_enter Tryd.func29, Tryd.ntmps29
  go_wp2_with (go_at_call 54; refine (HN.out _ (by decide +kernel) (by decide +kernel) _).mono ?_; rintro e1 w1 ⟨rfl, hb1⟩)
  go_ret
  exact ⟨ret_int (by rw [e.out]; rfl), hb1⟩
set_option maxRecDepth 100000 in
set_option maxHeartbeats 2000000 in
theorem sign_two_x (n : Nat) (S : Int) (w : World) (h : (n = 164 ∧ S = 1108) ∨ (n = 166 ∧ S = 1110) ∨ (n = 167 ∧ S = 1111) ∨ (n = 173 ∧ S = 1169) ∨ (n = 180 ∧ S = 1028) ∨ (n = 182 ∧ S = 1030) ∨ (n = 183 ∧ S = 1031) ∨ (n = 189 ∧ S = 1168)) : Calls Tryd.prog 29 #[.int .i64 2, .int .u8 n] w fun e w' => e = .returned (.int .i32 S) ∧ Below w.heap.size w w' := by
  rcases h with ⟨rfl, rfl⟩ | ⟨rfl, rfl⟩ | ⟨rfl, rfl⟩ | ⟨rfl, rfl⟩ | ⟨rfl, rfl⟩ | ⟨rfl, rfl⟩ | ⟨rfl, rfl⟩ | ⟨rfl, rfl⟩
  all_goals
    go_enter Tryd.func29, Tryd.ntmps29
    go_wp2
    go_ret
    exact ⟨rfl, Below.refl _ _⟩
theorem sign_any (c : Int) (n : Nat) (w : World) (h0 : 0 ≤ c) (h1 : c ≤ 3) (hn : n < 256) : Calls Tryd.prog 29 #[.int .i64 c, .int .u8 n] w fun e w' => e = .returned (.int .i32 (sgn c n)) ∧ Below w.heap.size w w' := by
  by_cases hl : c = 0 ∨ n < 128
  · have e : sgn c n = (n : Int) := by unfold sgn; rw [if_pos hl]
    rw [e]; exact sign_low c n w hn hl
  · rcases four h0 h1 with rfl | rfl | rfl | rfl
    · exact absurd (.inl rfl) hl
    · exact sign_one n w hn (by omega)
    · by_cases hx : n ≠ 164 ∧ n ≠ 166 ∧ n ≠ 167 ∧ n ≠ 173 ∧ n ≠ 180 ∧ n ≠ 182 ∧ n ≠ 183 ∧ n ≠ 189
      · exact sign_two n w hn (by omega) hx
      · refine sign_two_x n (sgn 2 n) w ?_
        have hh : n = 164 ∨ n = 166 ∨ n = 167 ∨ n = 173 ∨ n = 180 ∨ n = 182 ∨ n = 183 ∨ n = 189 := by omega
        rcases hh with rfl | rfl | rfl | rfl | rfl | rfl | rfl | rfl <;> decide
    · exact sign_three n w hn (by omega)
set_option maxRecDepth 100000 in
set_option maxHeartbeats 1000000 in
theorem byte_any (c p : Int) (w : World) (h0 : 0 ≤ c) (h1 : c ≤ 3) : Calls Tryd.prog 59 #[.int .i64 c, .int .i32 p] w fun e w' => e = .returned (.int .i64 (byte c p)) ∧ Below w.heap.size w w' := by
  obtain ⟨R, hR⟩ : ∃ R, R = byte c p := ⟨_, rfl⟩
  rw [← hR]
  have HR := Lib.hid hR
  clear hR
  go_enter Tryd.func59, Tryd.ntmps59
  go_wp2_with fail
  go_loopw [5] (fun i wr => ∃ n f : Nat, n + f = 256 ∧ i = .int .i64 n ∧ byFrom c p f n = R ∧ Below w.heap.size w wr) (fun i _ => 256 - (RowKit.intOf i).toNat)
  case atStart => exact ⟨0, 256, rfl, rfl, HR.out.symm, Below.refl _ _⟩
  case round =>
    obtain ⟨n, f, hnf, rfl, hby, hB⟩ := hrel
    have HB := Lib.hid hB; have HY := Lib.hid hby; have HNF := Lib.hid hnf
    have hn256 : n ≤ 256 := by omega
    clear hB hby hnf
    by_cases hlt : n < 256
    · obtain ⟨f1, rfl⟩ : ∃ f1, f = f1 + 1 := ⟨f - 1, by have := HNF.out; omega⟩
      have HS := fun w2 => sign_any c n w2 h0 h1 hlt
      have hu : Hid (byFrom c p (f1 + 1) n = if sgn c n = p then (n : Int) else byFrom c p f1 (n + 1)) := Lib.hid rfl
      have g0 : (0 : Int) ≤ (n : Int) := by omega
      have g1 : (n : Int) ≤ 255 := by omega
      generalize sgn c n = S at *
      have HSS := Lib.hid HS
      clear HS
      by_cases hp : S = p
      · have e1 : (S == p) = true := by rw [hp]; exact beq_self_eq_true p
        have hRn : Hid (R = (n : Int)) := Lib.hid (by rw [← HY.out, hu.out, if_pos hp])
        clear hp
        go_wp2_with (go_at_call 29; refine (HSS.out _).mono ?_; rintro e2 w2 ⟨rfl, hb2⟩)
        go_ret
        exact ⟨ret_int (by rw [hRn.out]), HB.out.trans (hb2.mono HB.out.size)⟩
      · have e1 : (S == p) = false := beq_eq_false_iff_ne.2 hp
        have hRn : Hid (byFrom c p f1 (n + 1) = R) := Lib.hid (by rw [← HY.out, hu.out, if_neg hp])
        clear hp
        go_wp2_with (go_at_call 29; refine (HSS.out _).mono ?_; rintro e2 w2 ⟨rfl, hb2⟩)
        go_roundw
        case rel => exact ⟨n + 1, f1, by have := HNF.out; omega, by go_num, hRn.out, HB.out.trans (hb2.mono HB.out.size)⟩
        case measure => simp [RowKit.intOf]; omega
    · obtain rfl : f = 0 := by have := HNF.out; omega
      obtain rfl : n = 256 := by omega
      have hRn : Hid (R = -1) := Lib.hid (by rw [← HY.out]; rfl)
      go_wp2_with fail
      go_ret
      exact ⟨ret_int (by rw [hRn.out]), HB.out⟩
end Go.Proofs.YtiokdeomdeenbaaDoor.sg
