/- The document's answer of layer 5: Nth, Sign, Byte: contracts. -/
import Derived.Test.YtgjndekgnkjknaaGreatDoorSg0
namespace Go.Proofs.YtgjndekgnkjknaaGreatDoor.sg
open Go.RowKit Go.Lib
set_option linter.unusedVariables false
theorem ret_int {k : IntKind} {a b : Int} (h : a = b) : Ending.returned (.int k a) = .returned (.int k b) := by rw [h]
set_option maxRecDepth 100000 in
set_option maxHeartbeats 1000000 in
theorem nth_any (L : List Nat) (s : ByteArray) (hs : pt.scan s = (L, none)) (hz : s.size ≤ 2000) (n : Nat) (hn : n < L.length) (w : World) :
    Calls Tryz.prog 14 #[.string s, .int .i64 n] w fun e w' => e = .returned (.int .i32 ((L.getD n 0 : Nat) : Int)) ∧ Below w.heap.size w w' := by
  obtain ⟨R, hR⟩ : ∃ R, R = L[n]? := ⟨_, rfl⟩
  have hs1 : (pt.sc s s.size 0).1 = L := by have := congrArg Prod.fst hs; exact this
  have hs2 : (pt.sc s s.size 0).2 = none := by have := congrArg Prod.snd hs; exact this
  have hln : L.length ≤ 2000 := by rw [← hs1]; have := pt.sc_len s s.size 0; omega
  have hRn : Hid (L[n]? = R) := Lib.hid hR.symm
  have hRs : Hid (R = some (L.getD n 0)) := Lib.hid (by rw [hR, List.getElem?_eq_getElem hn]; simp [List.getD, List.getElem?_eq_getElem hn])
  have H1 := Lib.hid hs1; have H2 := Lib.hid hs2
  clear hs hs1 hs2 hR
  generalize L.getD n 0 = V at *
  go_enter Tryz.func14, Tryz.ntmps14
  go_wp2_with fail
  go_loopw [1, 5] (fun m i wr => ∃ (pos f k : Nat), pos ≤ s.size ∧ s.size ≤ pos + f ∧ k ≤ n ∧ m = .int .i64 k ∧ i = .int .i64 pos ∧ (pt.sc s f pos).1[k]? = R ∧ (pt.sc s f pos).2 = none ∧ Below w.heap.size w wr) (fun m _ _ => (RowKit.intOf m).toNat)
  case atStart => exact ⟨0, s.size, n, Nat.zero_le _, by omega, Nat.le_refl _, rfl, rfl, by rw [H1.out]; exact hRn.out, H2.out, Below.refl _ _⟩
  case round =>
    obtain ⟨pos, f, k, hp, hf, hk, rfl, rfl, hg, h2, hB⟩ := hrel
    have HB := Lib.hid hB
    have hpt : pos < s.size := by
      rcases Nat.lt_or_ge pos s.size with h | h
      · exact h
      · rw [pt.sc_end s f pos (by omega), hRs.out] at hg
        simp at hg
    obtain ⟨f1, rfl⟩ : ∃ f1, f = f1 + 1 := ⟨f - 1, by omega⟩
    cases hb : pt.bad s pos with
    | true => rw [pt.sc_bad s (f1 + 1) pos hpt hf hb] at h2; cases h2
    | false =>
      rw [pt.sc_good s f1 pos hpt hb] at hg h2
      have hat := fun w2 => pt.at_any s pos w2 hpt (by omega)
      rw [hb] at hat
      simp only [Bool.false_eq_true, if_false] at hat
      have hw1 := width_pos s pos
      have hw2 := pt.width_fits s pos hpt
      have hr := rune_le s pos
      have HG := Lib.hid hg; have HH2 := Lib.hid h2
      clear hg h2 hb hB
      generalize Utf8.decode s pos = d at *
      have HAT := Lib.hid hat
      clear hat
      have hd0 : ¬ (d.2 : Int) = 0 := by omega
      cases k with
      | zero =>
        have hV : Hid (d.1 = V) := Lib.hid (by have := HG.out; rw [hRs.out] at this; simpa using this)
        go_wp2_with (go_at_call 25; refine (HAT.out _).mono ?_; rintro e1 w1 ⟨rfl, hb1⟩)
        go_ret
        exact ⟨ret_int (by rw [hV.out]), HB.out.trans (hb1.mono HB.out.size)⟩
      | succ k =>
        have hk0 : ((k + 1 : Nat) : Int) = (k : Int) + 1 := by omega
        rw [hk0]
        have hk1 : ((k : Int) + 1 == 0) = false := beq_eq_false_iff_ne.2 (by omega)
        have hd1 : ((d.2 : Int) == 0) = false := beq_eq_false_iff_ne.2 hd0
        clear hk0
        go_wp2_with (go_at_call 25; refine (HAT.out _).mono ?_; rintro e1 w1 ⟨rfl, hb1⟩)
        go_roundw
        case rel => exact ⟨pos + d.2, f1, k, hw2, by omega, by omega, by go_num, by go_num, by have := HG.out; simpa using this, HH2.out, HB.out.trans (hb1.mono HB.out.size)⟩
        case measure => simp [RowKit.intOf]
/-- Where a byte stands among those that differ. -/
theorem sgn_rus (c : Int) (n : Nat) (hc : c = 1 ∨ c = 2) (h : 128 ≤ n) (hx : c = 2 → n ≠ 164 ∧ n ≠ 166 ∧ n ≠ 167 ∧ n ≠ 173 ∧ n ≠ 180 ∧ n ≠ 182 ∧ n ≠ 183 ∧ n ≠ 189) : sgn c n = ((rusL.getD (n - 128) 0 : Nat) : Int) := by
  unfold sgn
  rw [if_neg (by omega), if_neg (by omega), if_neg (by omega), if_neg (by omega), if_neg (by omega), if_neg (by omega), if_neg (by omega), if_neg (by omega), if_neg (by omega), if_neg (by omega)]
end Go.Proofs.YtgjndekgnkjknaaGreatDoor.sg
