/- The document's own answers of layer 8: One, Two, Signs: contracts. -/
import Derived.Test.YtmpddibdggdngaaDoorBg1
import Derived.Test.YtmpddibdggdngaaDoorPtB
namespace Go.Proofs.YtmpddibdggdngaaDoor.bg
open Go.RowKit Go.Lib
set_option linter.unusedVariables false
def OnePost (w : World) (l b : Nat) : Ending → World → Prop := fun e w' => e = .returned (.int .i32 ((one l b : Nat) : Int)) ∧ Below w.heap.size w w'
theorem onePost {w w' : World} {l b : Nat} {v : Int} (h : ((one l b : Nat) : Int) = v) (hb : Below w.heap.size w w') : OnePost w l b (.returned (.int .i32 v)) w' := ⟨by rw [h], hb⟩
set_option maxRecDepth 100000 in
set_option maxHeartbeats 2000000 in
theorem one_any (l b : Nat) (w : World) (hl : l < 256) (hb : b < 256) : Calls Tryd.prog 14 #[.int .i64 l, .int .i64 b] w (OnePost w l b) := by
  have HC := Lib.hid (fun w2 => cell_any b w2 hb)
  cases hc : cell b with
  | none =>
    have e : cellI b = -1 := by unfold cellI; rw [hc]
    rw [e] at HC
    have HV : Hid (((one l b : Nat) : Int) = 0) := Lib.hid (by unfold one; rw [hc]; rfl)
    clear hc e
    go_enter Tryd.func14, Tryd.ntmps14
    go_wp2_with (go_at_call 29; refine (HC.out _).mono ?_; rintro e2 w2 ⟨rfl, rfl⟩)
    go_ret
    exact onePost HV.out (Below.refl _ _)
  | some c =>
    have e : cellI b = (c : Int) := by unfold cellI; rw [hc]
    rw [e] at HC
    have hc2 := (cell_back hc).2
    have hV : one l b = sgC l c := by unfold one; rw [hc]
    unfold sgC at hV
    have HN : Hid (∀ s, pt.scan s = (rowL l, none) → s.size ≤ 2000 → ∀ w2, Calls Tryd.prog 30 #[.string s, .int .i64 c] w2 fun e w' => e = .returned (.int .i32 (((rowL l).getD c 0 : Nat) : Int)) ∧ Below w2.heap.size w2 w') := Lib.hid (fun s hs hz w2 => nth_any (rowL l) s hs hz c (by omega) w2)
    have HR := Lib.hid (fun w2 => row_any l w2)
    have c0 : ¬ (c : Int) < 0 := by omega
    by_cases h6 : (rowL l).getD c 0 = 63
    · have HV : Hid (((one l b : Nat) : Int) = 0) := Lib.hid (by rw [hV, if_pos h6]; rfl)
      rw [h6] at HN
      replace HN : Hid (∀ s, pt.scan s = (rowL l, none) → s.size ≤ 2000 → ∀ w2, Calls Tryd.prog 30 #[.string s, .int .i64 c] w2 fun e w' => e = .returned (.int .i32 63) ∧ Below w2.heap.size w2 w') := HN
      clear hc e hc2 hV h6
      go_enter Tryd.func14, Tryd.ntmps14
      go_wp2_with (first | (go_at_call 29; refine (HC.out _).mono ?_; rintro e2 w2 ⟨rfl, rfl⟩) | (go_at_call 26; refine (HR.out _).mono ?_; rintro e2 w2 ⟨s, rfl, hs, hz, rfl⟩; have HS := Lib.hid hs; have HZ := Lib.hid hz; clear hs hz) | (go_at_call 30; refine (HN.out _ HS.out HZ.out _).mono ?_; rintro e3 w3 ⟨rfl, hb3⟩))
      go_ret
      exact onePost HV.out hb3
    · have HV : Hid (((one l b : Nat) : Int) = (((rowL l).getD c 0 : Nat) : Int)) := Lib.hid (by rw [hV, if_neg h6])
      have e6 : ((((rowL l).getD c 0 : Nat) : Int) == 63) = false := beq_eq_false_iff_ne.2 (by omega)
      clear hc e hc2 hV h6
      generalize (((rowL l).getD c 0 : Nat) : Int) = V at *
      go_enter Tryd.func14, Tryd.ntmps14
      go_wp2_with (first | (go_at_call 29; refine (HC.out _).mono ?_; rintro e2 w2 ⟨rfl, rfl⟩) | (go_at_call 26; refine (HR.out _).mono ?_; rintro e2 w2 ⟨s, rfl, hs, hz, rfl⟩; have HS := Lib.hid hs; have HZ := Lib.hid hz; clear hs hz) | (go_at_call 30; refine (HN.out _ HS.out HZ.out _).mono ?_; rintro e3 w3 ⟨rfl, hb3⟩))
      go_ret
      exact onePost HV.out hb3
def twV (k : Nat) : Value := .tuple #[.int .i32 ((tw k).1 : Nat), .int .i32 ((tw k).2 : Nat)]
set_option maxRecDepth 100000 in
set_option maxHeartbeats 2000000 in
theorem two_any (l b : Nat) (w : World) (hl : l < 256) (hb : b < 256) : Calls Tryd.prog 18 #[.int .i64 l, .int .i64 b] w fun e w' => e = .returned (twV (l * 256 + b)) ∧ w = w' := by
  have l0 : (0 : Int) ≤ (l : Int) := by omega
  have l1 : (l : Int) < 256 := by omega
  have b0 : (0 : Int) ≤ (b : Int) := by omega
  have b1 : (b : Int) < 256 := by omega
  rcases tw_cases (l * 256 + b) with ⟨e, ht⟩ | ⟨e, ht⟩ | ⟨e, ht⟩ | ⟨e, ht⟩ | ⟨ht, n1, n2, n3, n4⟩
  · have hV : Hid (twV (l * 256 + b) = twV 34914) := Lib.hid (by rw [e])
    have eC : (l : Int) * 256 + (b : Int) = 34914 := by omega
    clear e ht
    rw [hV.out]
    go_enter Tryd.func18, Tryd.ntmps18
    go_wp2_with fail
    go_ret2
    exact ⟨rfl, rfl⟩
  · have hV : Hid (twV (l * 256 + b) = twV 34916) := Lib.hid (by rw [e])
    have eC : (l : Int) * 256 + (b : Int) = 34916 := by omega
    clear e ht
    rw [hV.out]
    go_enter Tryd.func18, Tryd.ntmps18
    go_wp2_with fail
    go_ret2
    exact ⟨rfl, rfl⟩
  · have hV : Hid (twV (l * 256 + b) = twV 34979) := Lib.hid (by rw [e])
    have eC : (l : Int) * 256 + (b : Int) = 34979 := by omega
    clear e ht
    rw [hV.out]
    go_enter Tryd.func18, Tryd.ntmps18
    go_wp2_with fail
    go_ret2
    exact ⟨rfl, rfl⟩
  · have hV : Hid (twV (l * 256 + b) = twV 34981) := Lib.hid (by rw [e])
    have eC : (l : Int) * 256 + (b : Int) = 34981 := by omega
    clear e ht
    rw [hV.out]
    go_enter Tryd.func18, Tryd.ntmps18
    go_wp2_with fail
    go_ret2
    exact ⟨rfl, rfl⟩
  · have hV : Hid (twV (l * 256 + b) = .tuple #[.int .i32 0, .int .i32 0]) := Lib.hid (by unfold twV; rw [ht]; rfl)
    have e1 : ((l : Int) * 256 + (b : Int) == 34914) = false := beq_eq_false_iff_ne.2 (by omega)
    have e2 : ((l : Int) * 256 + (b : Int) == 34916) = false := beq_eq_false_iff_ne.2 (by omega)
    have e3 : ((l : Int) * 256 + (b : Int) == 34979) = false := beq_eq_false_iff_ne.2 (by omega)
    have e4 : ((l : Int) * 256 + (b : Int) == 34981) = false := beq_eq_false_iff_ne.2 (by omega)
    clear n1 n2 n3 n4 ht
    rw [hV.out]
    go_enter Tryd.func18, Tryd.ntmps18
    go_wp2_with fail
    go_ret2
    exact ⟨rfl, rfl⟩
/-- The text of two bytes' signs. -/
def sgT (l b : Nat) : ByteArray := pt.txt ((sgL l b).map Int.ofNat)
theorem sgT_two {l b p q : Nat} (h : tw (l * 256 + b) = (p, q)) (h0 : p ≠ 0) : sgT l b = pt.txt [(p : Int), (q : Int)] := by
  unfold sgT sgL; rw [h, if_pos h0]; rfl
theorem sgT_one {l b : Nat} (h : tw (l * 256 + b) = (0, 0)) (h0 : one l b ≠ 0) : sgT l b = pt.txt [((one l b : Nat) : Int)] := by
  unfold sgT sgL; rw [h, if_neg (by simp), if_pos h0]; rfl
theorem sgT_none {l b : Nat} (h : tw (l * 256 + b) = (0, 0)) (h0 : one l b = 0) : sgT l b = ⟨#[]⟩ := by
  unfold sgT sgL; rw [h, if_neg (by simp), if_neg (by simp [h0])]; rfl
theorem txt_one (p : Int) : pt.txt [p] = strOfNums (encodeRuneZ p) := by unfold pt.txt pt.nums; simp
theorem one_valid {l b : Nat} (h : one l b ≠ 0) : validRune ((one l b : Nat) : Int) = true := by
  obtain ⟨c, hc, hl⟩ := one_has h
  obtain ⟨h1, h2⟩ := one_J hl hc
  have h3 := oneJ_rng h2
  rw [h1] at h ⊢
  unfold validRune
  simp; omega
def SgsPost (w : World) (l b : Nat) : Ending → World → Prop := fun e w' => e = .returned (.string (sgT l b)) ∧ Below w.heap.size w w'
theorem sgsPost {w w' : World} {l b : Nat} {v : ByteArray} (h : sgT l b = v) (hb : Below w.heap.size w w') : SgsPost w l b (.returned (.string v)) w' := ⟨by rw [h], hb⟩
set_option maxRecDepth 100000 in
set_option maxHeartbeats 4000000 in
theorem signs_any (l b : Nat) (w : World) (hl : l < 256) (hb : b < 256) : Calls Tryd.prog 8 #[.int .i64 l, .int .i64 b] w (SgsPost w l b) := by
  have HT := Lib.hid (fun w2 => two_any l b w2 hl hb)
  rcases tw_cases (l * 256 + b) with ⟨_, ht⟩ | ⟨_, ht⟩ | ⟨_, ht⟩ | ⟨_, ht⟩ | ⟨ht, _⟩
  · have HV : Hid (sgT l b = ⟨#[195, 138, 204, 132]⟩) := Lib.hid (by rw [sgT_two ht (by omega)]; decide +kernel)
    have e : twV (l * 256 + b) = .tuple #[.int .i32 202, .int .i32 772] := by unfold twV; rw [ht]; rfl
    rw [e] at HT
    have HP : Hid (∀ w2, Calls Tryd.prog 19 #[.int .i32 202] w2 fun e w' => e = .returned (.string ⟨#[195, 138]⟩) ∧ Below w2.heap.size w2 w') := Lib.hid (fun w2 => by
      have := pt.bytes_any 202 w2 (by decide)
      rw [show strOfNums (encodeRuneZ 202) = ⟨#[195, 138]⟩ by decide +kernel] at this
      exact this)
    have HQ : Hid (∀ w2, Calls Tryd.prog 19 #[.int .i32 772] w2 fun e w' => e = .returned (.string ⟨#[204, 132]⟩) ∧ Below w2.heap.size w2 w') := Lib.hid (fun w2 => by
      have := pt.bytes_any 772 w2 (by decide)
      rw [show strOfNums (encodeRuneZ 772) = ⟨#[204, 132]⟩ by decide +kernel] at this
      exact this)
    clear e ht
    go_enter Tryd.func8, Tryd.ntmps8
    go_wp2_with (first | (go_at_call 18; refine (HT.out _).mono ?_; rintro e2 w2 ⟨rfl, rfl⟩) | (go_at_call 19; (with_reducible refine (HP.out _).mono ?_); rintro e3 w3 ⟨rfl, hb3⟩) | (go_at_call 19; (with_reducible refine (HQ.out _).mono ?_); rintro e4 w4 ⟨rfl, hb4⟩))
    go_ret
    exact sgsPost HV.out (hb3.trans (hb4.mono hb3.size))
  · have HV : Hid (sgT l b = ⟨#[195, 138, 204, 140]⟩) := Lib.hid (by rw [sgT_two ht (by omega)]; decide +kernel)
    have e : twV (l * 256 + b) = .tuple #[.int .i32 202, .int .i32 780] := by unfold twV; rw [ht]; rfl
    rw [e] at HT
    have HP : Hid (∀ w2, Calls Tryd.prog 19 #[.int .i32 202] w2 fun e w' => e = .returned (.string ⟨#[195, 138]⟩) ∧ Below w2.heap.size w2 w') := Lib.hid (fun w2 => by
      have := pt.bytes_any 202 w2 (by decide)
      rw [show strOfNums (encodeRuneZ 202) = ⟨#[195, 138]⟩ by decide +kernel] at this
      exact this)
    have HQ : Hid (∀ w2, Calls Tryd.prog 19 #[.int .i32 780] w2 fun e w' => e = .returned (.string ⟨#[204, 140]⟩) ∧ Below w2.heap.size w2 w') := Lib.hid (fun w2 => by
      have := pt.bytes_any 780 w2 (by decide)
      rw [show strOfNums (encodeRuneZ 780) = ⟨#[204, 140]⟩ by decide +kernel] at this
      exact this)
    clear e ht
    go_enter Tryd.func8, Tryd.ntmps8
    go_wp2_with (first | (go_at_call 18; refine (HT.out _).mono ?_; rintro e2 w2 ⟨rfl, rfl⟩) | (go_at_call 19; (with_reducible refine (HP.out _).mono ?_); rintro e3 w3 ⟨rfl, hb3⟩) | (go_at_call 19; (with_reducible refine (HQ.out _).mono ?_); rintro e4 w4 ⟨rfl, hb4⟩))
    go_ret
    exact sgsPost HV.out (hb3.trans (hb4.mono hb3.size))
  · have HV : Hid (sgT l b = ⟨#[195, 170, 204, 132]⟩) := Lib.hid (by rw [sgT_two ht (by omega)]; decide +kernel)
    have e : twV (l * 256 + b) = .tuple #[.int .i32 234, .int .i32 772] := by unfold twV; rw [ht]; rfl
    rw [e] at HT
    have HP : Hid (∀ w2, Calls Tryd.prog 19 #[.int .i32 234] w2 fun e w' => e = .returned (.string ⟨#[195, 170]⟩) ∧ Below w2.heap.size w2 w') := Lib.hid (fun w2 => by
      have := pt.bytes_any 234 w2 (by decide)
      rw [show strOfNums (encodeRuneZ 234) = ⟨#[195, 170]⟩ by decide +kernel] at this
      exact this)
    have HQ : Hid (∀ w2, Calls Tryd.prog 19 #[.int .i32 772] w2 fun e w' => e = .returned (.string ⟨#[204, 132]⟩) ∧ Below w2.heap.size w2 w') := Lib.hid (fun w2 => by
      have := pt.bytes_any 772 w2 (by decide)
      rw [show strOfNums (encodeRuneZ 772) = ⟨#[204, 132]⟩ by decide +kernel] at this
      exact this)
    clear e ht
    go_enter Tryd.func8, Tryd.ntmps8
    go_wp2_with (first | (go_at_call 18; refine (HT.out _).mono ?_; rintro e2 w2 ⟨rfl, rfl⟩) | (go_at_call 19; (with_reducible refine (HP.out _).mono ?_); rintro e3 w3 ⟨rfl, hb3⟩) | (go_at_call 19; (with_reducible refine (HQ.out _).mono ?_); rintro e4 w4 ⟨rfl, hb4⟩))
    go_ret
    exact sgsPost HV.out (hb3.trans (hb4.mono hb3.size))
  · have HV : Hid (sgT l b = ⟨#[195, 170, 204, 140]⟩) := Lib.hid (by rw [sgT_two ht (by omega)]; decide +kernel)
    have e : twV (l * 256 + b) = .tuple #[.int .i32 234, .int .i32 780] := by unfold twV; rw [ht]; rfl
    rw [e] at HT
    have HP : Hid (∀ w2, Calls Tryd.prog 19 #[.int .i32 234] w2 fun e w' => e = .returned (.string ⟨#[195, 170]⟩) ∧ Below w2.heap.size w2 w') := Lib.hid (fun w2 => by
      have := pt.bytes_any 234 w2 (by decide)
      rw [show strOfNums (encodeRuneZ 234) = ⟨#[195, 170]⟩ by decide +kernel] at this
      exact this)
    have HQ : Hid (∀ w2, Calls Tryd.prog 19 #[.int .i32 780] w2 fun e w' => e = .returned (.string ⟨#[204, 140]⟩) ∧ Below w2.heap.size w2 w') := Lib.hid (fun w2 => by
      have := pt.bytes_any 780 w2 (by decide)
      rw [show strOfNums (encodeRuneZ 780) = ⟨#[204, 140]⟩ by decide +kernel] at this
      exact this)
    clear e ht
    go_enter Tryd.func8, Tryd.ntmps8
    go_wp2_with (first | (go_at_call 18; refine (HT.out _).mono ?_; rintro e2 w2 ⟨rfl, rfl⟩) | (go_at_call 19; (with_reducible refine (HP.out _).mono ?_); rintro e3 w3 ⟨rfl, hb3⟩) | (go_at_call 19; (with_reducible refine (HQ.out _).mono ?_); rintro e4 w4 ⟨rfl, hb4⟩))
    go_ret
    exact sgsPost HV.out (hb3.trans (hb4.mono hb3.size))
  · have e : twV (l * 256 + b) = .tuple #[.int .i32 0, .int .i32 0] := by unfold twV; rw [ht]; rfl
    rw [e] at HT
    have HO : Hid (∀ w2, Calls Tryd.prog 14 #[.int .i64 l, .int .i64 b] w2 fun e w' => e = .returned (.int .i32 ((one l b : Nat) : Int)) ∧ Below w2.heap.size w2 w') := Lib.hid (fun w2 => one_any l b w2 hl hb)
    by_cases ho : one l b = 0
    · have HV : Hid (sgT l b = ⟨#[]⟩) := Lib.hid (sgT_none ht ho)
      rw [ho] at HO
      replace HO : Hid (∀ w2, Calls Tryd.prog 14 #[.int .i64 l, .int .i64 b] w2 fun e w' => e = .returned (.int .i32 0) ∧ Below w2.heap.size w2 w') := HO
      clear e ht ho
      go_enter Tryd.func8, Tryd.ntmps8
      go_wp2_with (first | (go_at_call 18; refine (HT.out _).mono ?_; rintro e2 w2 ⟨rfl, rfl⟩) | (go_at_call 14; refine (HO.out _).mono ?_; rintro e3 w3 ⟨rfl, hb3⟩))
      go_ret
      exact sgsPost HV.out hb3
    · have HV : Hid (sgT l b = strOfNums (encodeRuneZ ((one l b : Nat) : Int))) := Lib.hid (by rw [sgT_one ht ho, txt_one])
      have HP := Lib.hid (fun w2 => pt.bytes_any ((one l b : Nat) : Int) w2 (one_valid ho))
      have hne : ¬ ((one l b : Nat) : Int) = 0 := by omega
      generalize ((one l b : Nat) : Int) = P at *
      generalize strOfNums (encodeRuneZ P) = T at *
      have e1 : (P != 0) = true := by rw [bne, beq_eq_false_iff_ne.2 hne]; rfl
      clear e ht ho hne
      go_enter Tryd.func8, Tryd.ntmps8
      go_wp2_with (first | (go_at_call 18; refine (HT.out _).mono ?_; rintro e2 w2 ⟨rfl, rfl⟩) | (go_at_call 14; refine (HO.out _).mono ?_; rintro e3 w3 ⟨rfl, hb3⟩) | (go_at_call 19; refine (HP.out _).mono ?_; rintro e4 w4 ⟨rfl, hb4⟩))
      go_ret
      exact sgsPost HV.out (hb3.trans (hb4.mono hb3.size))
end Go.Proofs.YtmpddibdggdngaaDoor.bg
