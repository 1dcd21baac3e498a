/- The document's own answers of layer 8: Cell, row, nth, One, Two, Signs: contracts. -/
import Derived.Test.YtmpddibdggdngaaDoorBg0
import Derived.Test.YtmpddibdggdngaaDoorSg1
namespace Go.Proofs.YtmpddibdggdngaaDoor.bg
open Go.RowKit Go.Lib
set_option linter.unusedVariables false
theorem wrap64 {x : Int} (h0 : -9223372036854775808 ≤ x) (h1 : x ≤ 9223372036854775807) : IntKind.i64.wrap x = x := by simp [IntKind.wrap, IntKind.bits, IntKind.signed]; omega
theorem wrap32 {x : Int} (h0 : -2147483648 ≤ x) (h1 : x ≤ 2147483647) : IntKind.i32.wrap x = x := by simp [IntKind.wrap, IntKind.bits, IntKind.signed]; omega
theorem rInt {k : IntKind} {a b : Int} (h : a = b) : Ending.returned (.int k a) = .returned (.int k b) := by rw [h]
/-- The cell of a second byte; -1: it is none. -/
def cellI (b : Nat) : Int := match cell b with
  | some c => (c : Nat)
  | none => -1
theorem cellI_1 {b : Nat} (h : 64 ≤ b ∧ b ≤ 126) : cellI b = (b : Int) - 64 := by unfold cellI cell; rw [if_pos h]; show ((b - 64 : Nat) : Int) = _; omega
theorem cellI_2 {b : Nat} (h : 161 ≤ b ∧ b ≤ 254) : cellI b = (b : Int) - 161 + 63 := by unfold cellI cell; rw [if_neg (by omega), if_pos h]; show ((b - 98 : Nat) : Int) = _; omega
theorem cellI_0 {b : Nat} (h1 : ¬ (64 ≤ b ∧ b ≤ 126)) (h2 : ¬ (161 ≤ b ∧ b ≤ 254)) : cellI b = -1 := by unfold cellI cell; rw [if_neg h1, if_neg h2]
set_option maxRecDepth 100000 in
set_option maxHeartbeats 1000000 in
theorem cell_any (b : Nat) (w : World) (hb : b < 256) : Calls Tryd.prog 29 #[.int .i64 b] w fun e w' => e = .returned (.int .i64 (cellI b)) ∧ w = w' := by
  have hh : b < 64 ∨ (64 ≤ b ∧ b ≤ 126) ∨ (127 ≤ b ∧ b < 161) ∨ (161 ≤ b ∧ b ≤ 254) ∨ b = 255 := by omega
  obtain ⟨V, hV⟩ : ∃ V, V = cellI b := ⟨_, rfl⟩
  rw [← hV]
  generalize hB : (b : Int) = B
  rcases hh with h | h | h | h | h
  · have hv : V = -1 := by rw [hV, cellI_0 (by omega) (by omega)]
    subst hv
    have g0 : ¬ 64 ≤ B := by omega
    have g1 : ¬ 161 ≤ B := by omega
    clear hV hB h
    go_enter Tryd.func29, Tryd.ntmps29
    go_wp2
    go_ret
    exact ⟨rfl, rfl⟩
  · have hv : V = B - 64 := by rw [hV, cellI_1 h]; omega
    subst hv
    have g0 : 64 ≤ B := by omega
    have g1 : B ≤ 126 := by omega
    clear hV hB h
    go_enter Tryd.func29, Tryd.ntmps29
    go_wp2
    go_ret
    exact ⟨rfl, rfl⟩
  · have hv : V = -1 := by rw [hV, cellI_0 (by omega) (by omega)]
    subst hv
    have g0 : 64 ≤ B := by omega
    have g3 : ¬ B ≤ 126 := by omega
    have g1 : ¬ 161 ≤ B := by omega
    clear hV hB h
    go_enter Tryd.func29, Tryd.ntmps29
    go_wp2
    go_ret
    exact ⟨rfl, rfl⟩
  · have hv : V = B - 161 + 63 := by rw [hV, cellI_2 h]; omega
    subst hv
    have g0 : 64 ≤ B := by omega
    have g3 : ¬ B ≤ 126 := by omega
    have g1 : 161 ≤ B := by omega
    have g2 : B ≤ 254 := by omega
    clear hV hB h
    go_enter Tryd.func29, Tryd.ntmps29
    go_wp2
    go_ret
    exact ⟨rfl, rfl⟩
  · have hv : V = -1 := by rw [hV, cellI_0 (by omega) (by omega)]
    subst hv
    obtain rfl : B = 255 := by omega
    clear hV hB h
    go_enter Tryd.func29, Tryd.ntmps29
    go_wp2
    go_ret
    exact ⟨rfl, rfl⟩
def RowPost (w : World) (l : Nat) : Ending → World → Prop := fun e w' => ∃ s, e = .returned (.string s) ∧ pt.scan s = (rowL l, none) ∧ s.size ≤ 2000 ∧ w = w'
set_option maxRecDepth 100000 in
set_option maxHeartbeats 2000000 in
theorem row_any (l : Nat) (w : World) : Calls Tryd.prog 26 #[.int .i64 l] w (RowPost w l) := by
  by_cases hl : l = 136 ∨ l = 161 ∨ l = 163 ∨ l = 164 ∨ l = 165
  · rcases hl with rfl | rfl | rfl | rfl | rfl
    all_goals
      go_enter Tryd.func26, Tryd.ntmps26
      go_wp2_with fail
      go_ret
      exact ⟨_, rfl, by decide +kernel, by decide +kernel, rfl⟩
  · have hr : Hid (rowL l = []) := Lib.hid (by unfold rowL; rw [if_neg (by omega), if_neg (by omega), if_neg (by omega), if_neg (by omega), if_neg (by omega)])
    have e0 : ((l : Int) == 136) = false := beq_eq_false_iff_ne.2 (by omega)
    have e1 : ((l : Int) == 161) = false := beq_eq_false_iff_ne.2 (by omega)
    have e2 : ((l : Int) == 163) = false := beq_eq_false_iff_ne.2 (by omega)
    have e3 : ((l : Int) == 164) = false := beq_eq_false_iff_ne.2 (by omega)
    have e4 : ((l : Int) == 165) = false := beq_eq_false_iff_ne.2 (by omega)
    clear hl
    go_enter Tryd.func26, Tryd.ntmps26
    go_wp2_with fail
    go_ret
    exact ⟨_, rfl, by rw [hr.out]; decide +kernel, by decide +kernel, rfl⟩
set_option maxRecDepth 100000 in
set_option maxHeartbeats 1000000 in
theorem nth_any (L : List Nat) (s : ByteArray) (hs : pt.scan s = (L, none)) (hz : s.size ≤ 2000) (n : Nat) (hn : n ≤ 1000) (w : World) :
    Calls Tryd.prog 30 #[.string s, .int .i64 n] w fun e w' => e = .returned (.int .i32 ((L.getD n 0 : Nat) : Int)) ∧ Below w.heap.size w w' := by
  have hs1 : (pt.sc s s.size 0).1 = L := by have := congrArg Prod.fst hs; exact this
  have hs2 : (pt.sc s s.size 0).2 = none := by have := congrArg Prod.snd hs; exact this
  obtain ⟨V, hV⟩ : ∃ V, V = L.getD n 0 := ⟨_, rfl⟩
  have HV : Hid ((pt.sc s s.size 0).1.getD n 0 = V) := Lib.hid (by rw [hs1, hV])
  rw [← hV]
  have H2 := Lib.hid hs2
  clear hs hs1 hs2 hV
  go_enter Tryd.func30, Tryd.ntmps30
  go_wp2_with fail
  go_loopw [5, 6] (fun a t wr => ∃ (pos f i : Nat), Hid (pos ≤ s.size ∧ s.size ≤ pos + f ∧ i ≤ n) ∧ a = .int .i64 pos ∧ t = .int .i64 i ∧ Hid ((pt.sc s f pos).1.getD (n - i) 0 = V ∧ (pt.sc s f pos).2 = none) ∧ Below w.heap.size w wr) (fun a _ _ => s.size - (RowKit.intOf a).toNat)
  case atStart => exact ⟨0, s.size, 0, Lib.hid ⟨Nat.zero_le _, by omega, Nat.zero_le _⟩, rfl, rfl, Lib.hid ⟨HV.out, H2.out⟩, Below.refl _ _⟩
  case round =>
    obtain ⟨pos, f, i, hp, rfl, rfl, hg, hB⟩ := hrel
    have HB := Lib.hid hB
    clear hB
    by_cases hpt : pos < s.size
    · obtain ⟨f1, rfl⟩ : ∃ f1, f = f1 + 1 := ⟨f - 1, by have := hp.out; omega⟩
      obtain ⟨hg1, hg2⟩ := hg.out
      cases hb : pt.bad s pos with
      | true => rw [pt.sc_bad s (f1 + 1) pos hpt (by have := hp.out; omega) hb] at hg2; cases hg2
      | false =>
        rw [pt.sc_good s f1 pos hpt hb] at hg1 hg2
        have hat := fun w2 => pt.at_any s pos w2 hpt (by omega)
        rw [hb] at hat
        simp only [Bool.false_eq_true, if_false] at hat
        have hw1 := width_pos s pos
        have hw2 := pt.width_fits s pos hpt
        have HG := Lib.hid hg1; have HH2 := Lib.hid hg2
        clear hg1 hg2 hb hg
        generalize Utf8.decode s pos = d at *
        have HAT := Lib.hid hat
        have HW1 := Lib.hid hw1; have HW2 := Lib.hid hw2
        have x1 : (d.2 : Int) ≤ 2000 := by omega
        have x0 : (0 : Int) ≤ (d.2 : Int) := by omega
        have y0 : (0 : Int) ≤ (pos : Int) := by omega
        have y1 : (pos : Int) < (s.size : Int) := by omega
        have y2 : (s.size : Int) ≤ 2000 := by omega
        have z1 : (i : Int) ≤ 1000 := by have := hp.out; omega
        clear hat hw1 hw2
        by_cases hi : i = n
        · have hV2 : Hid (d.1 = V) := Lib.hid (by have := HG.out; rw [hi, Nat.sub_self] at this; simpa using this)
          have e1 : ((i : Int) == (n : Int)) = true := by rw [hi]; exact beq_self_eq_true _
          have FIN : Hid (Ending.returned (.int .i32 ((d.1 : Nat) : Int)) = .returned (.int .i32 ((V : Nat) : Int))) := Lib.hid (by rw [hV2.out])
          clear hi
          go_wp2_with (go_at_call 21; refine (HAT.out _).mono ?_; rintro e1 w1 ⟨rfl, hb1⟩)
          go_ret
          exact ⟨FIN.out, HB.out.trans (hb1.mono HB.out.size)⟩
        · have e1 : ((i : Int) == (n : Int)) = false := beq_eq_false_iff_ne.2 (by omega)
          have hres : Hid ((pt.sc s f1 (pos + d.2)).1.getD (n - (i + 1)) 0 = V) := Lib.hid (by
            have := HG.out
            have h3 := hp.out
            rw [show n - i = (n - (i + 1)) + 1 by omega] at this
            simpa using this)
          have HI := Lib.hid hi
          clear hi
          go_wp2_with (go_at_call 21; refine (HAT.out _).mono ?_; rintro e1 w1 ⟨rfl, hb1⟩)
          go_roundw
          case rel => exact ⟨pos + d.2, f1, i + 1, Lib.hid ⟨HW2.out, by have := hp.out; have := HW1.out; omega, by have := hp.out; have := HI.out; omega⟩, by go_num, by go_num, Lib.hid ⟨hres.out, HH2.out⟩, HB.out.trans (hb1.mono HB.out.size)⟩
          case measure => simp [RowKit.intOf]; have := HW1.out; omega
    · have hV2 : Hid (Ending.returned (.int .i32 0) = .returned (.int .i32 ((V : Nat) : Int))) := Lib.hid (by
        have h1 := hg.out.1
        rw [pt.sc_end s f pos hpt] at h1
        rw [← h1]; simp)
      have y1 : ¬ (pos : Int) < (s.size : Int) := by omega
      go_wp2_with fail
      go_ret
      exact ⟨hV2.out, HB.out⟩
end Go.Proofs.YtmpddibdggdngaaDoor.bg
