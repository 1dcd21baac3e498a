/- The landed johab: repeat (first | (with_reducible exact Below.refl _ _) | (with_reducible refine Below.setCell ?_ (by simp) _) | (with_reducible refine Below.alloc ?_ (by simp) _)), Syllable, consonant, sign: contracts. -/
import Derived.Test.YtiamabeapomabaaDoorJo6
namespace Go.Proofs.YtiamabeapomabaaDoor.jo
open Go.RowKit Go.Lib
set_option linter.unusedVariables false
theorem below_any (a n : Int) (w : World) : Calls Tryd.prog 23 #[.int .i64 a, .int .i64 n] w fun e w' => e = .returned (.bool (decide (0 ≤ a ∧ a < n))) ∧ w = w' := by
  by_cases h0 : 0 ≤ a
  · by_cases h1 : a < n
    · rw [decide_eq_true ⟨h0, h1⟩]
      go_enter Tryd.func23, Tryd.ntmps23
      go_wp2
      go_ret
      exact ⟨rfl, rfl⟩
    · rw [decide_eq_false (fun h => h1 h.2)]
      go_enter Tryd.func23, Tryd.ntmps23
      go_wp2
      go_ret
      exact ⟨rfl, rfl⟩
  · rw [decide_eq_false (fun h => h0 h.1)]
    go_enter Tryd.func23, Tryd.ntmps23
    go_wp2
    go_ret
    exact ⟨rfl, rfl⟩
/-- Whether a syllable has these parts; which it is. -/
def has3 (i m f : Int) : Prop := (0 ≤ i ∧ i < 19) ∧ (0 ≤ m ∧ m < 21) ∧ (0 ≤ f ∧ f < 28)
theorem blC {a n : Int} (b : Bool) (h : decide (0 ≤ a ∧ a < n) = b) : Hid (∀ w2, Calls Tryd.prog 23 #[.int .i64 a, .int .i64 n] w2 fun e w' => e = .returned (.bool b) ∧ w2 = w') := Lib.hid (fun w2 => by subst h; exact below_any a n w2)
set_option maxRecDepth 100000 in
set_option maxHeartbeats 1000000 in
theorem syllable_yes (i m f : Int) (w : World) (h : has3 i m f) : Calls Tryd.prog 12 #[.int .i64 i, .int .i64 m, .int .i64 f] w fun e w' => e = .returned (.tuple #[.int .i32 (44032 + (i * 21 + m) * 28 + f), .bool true]) ∧ w = w' := by
  have B0 := blC (a := i) (n := 19) true (decide_eq_true h.1)
  have B1 := blC (a := m) (n := 21) true (decide_eq_true h.2.1)
  have B2 := blC (a := f) (n := 28) true (decide_eq_true h.2.2)
  obtain ⟨⟨i0, i1⟩, ⟨m0, m1⟩, f0, f1⟩ := h
  go_enter Tryd.func12, Tryd.ntmps12
  go_wp2_with (first | (go_at_call 23; (with_reducible refine (B0.out _).mono ?_); rintro e2 w2 ⟨rfl, rfl⟩) | (go_at_call 23; (with_reducible refine (B1.out _).mono ?_); rintro e2 w2 ⟨rfl, rfl⟩) | (go_at_call 23; (with_reducible refine (B2.out _).mono ?_); rintro e2 w2 ⟨rfl, rfl⟩))
  go_ret2
  exact ⟨rfl, rfl⟩
set_option maxRecDepth 100000 in
set_option maxHeartbeats 1000000 in
theorem syllable_no (i m f : Int) (w : World) (h : ¬ has3 i m f) : Calls Tryd.prog 12 #[.int .i64 i, .int .i64 m, .int .i64 f] w fun e w' => e = .returned (.tuple #[.int .i32 0, .bool false]) ∧ w = w' := by
  have K0 : (0 ≤ i ∧ i < 19) ∨ ¬ (0 ≤ i ∧ i < 19) := by omega
  by_cases hi : 0 ≤ i ∧ i < 19
  · by_cases hm : 0 ≤ m ∧ m < 21
    · have hf : ¬ (0 ≤ f ∧ f < 28) := fun hf => h ⟨hi, hm, hf⟩
      have B0 := blC (a := i) (n := 19) true (decide_eq_true hi)
      have B1 := blC (a := m) (n := 21) true (decide_eq_true hm)
      have B2 := blC (a := f) (n := 28) false (decide_eq_false hf)
      clear h hi hm hf K0
      go_enter Tryd.func12, Tryd.ntmps12
      go_wp2_with (first | (go_at_call 23; (with_reducible refine (B0.out _).mono ?_); rintro e2 w2 ⟨rfl, rfl⟩) | (go_at_call 23; (with_reducible refine (B1.out _).mono ?_); rintro e2 w2 ⟨rfl, rfl⟩) | (go_at_call 23; (with_reducible refine (B2.out _).mono ?_); rintro e2 w2 ⟨rfl, rfl⟩))
      go_ret2
      exact ⟨rfl, rfl⟩
    · have B0 := blC (a := i) (n := 19) true (decide_eq_true hi)
      have B1 := blC (a := m) (n := 21) false (decide_eq_false hm)
      clear h hi hm K0
      go_enter Tryd.func12, Tryd.ntmps12
      go_wp2_with (first | (go_at_call 23; (with_reducible refine (B0.out _).mono ?_); rintro e2 w2 ⟨rfl, rfl⟩) | (go_at_call 23; (with_reducible refine (B1.out _).mono ?_); rintro e2 w2 ⟨rfl, rfl⟩))
      go_ret2
      exact ⟨rfl, rfl⟩
  · have B0 := blC (a := i) (n := 19) false (decide_eq_false hi)
    clear h hi K0
    go_enter Tryd.func12, Tryd.ntmps12
    go_wp2_with (go_at_call 23; (with_reducible refine (B0.out _).mono ?_); rintro e2 w2 ⟨rfl, rfl⟩)
    go_ret2
    exact ⟨rfl, rfl⟩
def consB : ByteArray := ⟨#[65, 66, 100, 67, 102, 103, 68, 69, 70, 106, 107, 108, 109, 110, 111, 112, 71, 72, 73, 115, 74, 75, 76, 77, 78, 79, 80, 81, 82, 83]⟩
/-- Where a consonant stands; -1: nowhere. -/
def coI (s : Nat) : Int := if s = 0 then -1 else (s : Int) - 12593
theorem cons_i : ∀ k < 19, Lib.indexByte consB.data.toList ((65 + ((k : Nat) : Int)).toNat.toUInt8) = coI (alo k) := by decide +kernel
theorem cons_f : ∀ f < 28, Lib.indexByte consB.data.toList ((97 + ((f : Nat) : Int)).toNat.toUInt8) = coI (alo (100 + f)) := by decide +kernel
theorem alo_i : ∀ k < 19, 12593 ≤ alo k ∧ alo k ≤ 12622 := by decide +kernel
theorem alo_f : ∀ f < 28, alo (100 + f) = 0 ∨ (12593 ≤ alo (100 + f) ∧ alo (100 + f) ≤ 12622) := by decide +kernel
def sV (S : Nat) : Value := .tuple #[.int .i32 (S : Int), .bool (decide (S ≠ 0))]
set_option maxRecDepth 100000 in
set_option maxHeartbeats 2000000 in
theorem cons_zero (a d b : Int) (w : World) (h : (a = -1 ∧ d = 0) ∨ (0 ≤ a ∧ 0 < d)) : Calls Tryd.prog 25 #[.agg #[.int .i64 a, .int .i64 b, .int .i64 d]] w fun e w' => e = .returned (.tuple #[.int .i32 0, .bool false]) ∧ Below w.heap.size w w' := by
  rcases h with ⟨rfl, rfl⟩ | ⟨h1, h2⟩
  · go_enter Tryd.func25, Tryd.ntmps25
    go_wp2
    go_ret2
    exact ⟨rfl, (Below.refl _ _).alloc (Nat.le_refl _) _⟩
  · have e1 : (a == -1) = false := beq_eq_false_iff_ne.2 (by omega)
    have e2 : (d == 0) = false := beq_eq_false_iff_ne.2 (by omega)
    go_enter Tryd.func25, Tryd.ntmps25
    go_wp2
    go_ret2
    exact ⟨rfl, (Below.refl _ _).alloc (Nat.le_refl _) _⟩
set_option maxRecDepth 100000 in
set_option maxHeartbeats 2000000 in
theorem cons_init (k : Nat) (b : Int) (w : World) (hk : k < 19) : Calls Tryd.prog 25 #[.agg #[.int .i64 k, .int .i64 b, .int .i64 0]] w fun e w' => e = .returned (sV (alo k)) ∧ Below w.heap.size w w' := by
  have h1 := alo_i k hk
  have hs : coI (alo k) = (alo k : Int) - 12593 := by unfold coI; rw [if_neg (by omega)]
  have HX := Lib.hid (ixC consB (65 + (k : Int)) _ (cons_i k hk))
  rw [hs] at HX
  have HV : Hid (sV (alo k) = .tuple #[.int .i32 ((alo k : Nat) : Int), .bool true]) := Lib.hid (by unfold sV; rw [decide_eq_true (by omega)])
  obtain ⟨S, hS⟩ : ∃ S, S = alo k := ⟨_, rfl⟩
  rw [← hS] at h1 HX HV ⊢
  obtain ⟨D, hD⟩ : ∃ D : Int, D = (S : Int) - 12593 := ⟨_, rfl⟩
  rw [← hD] at HX
  have HD := Lib.hid hD
  have d0 : 0 ≤ D := by omega
  have d1 : D ≤ 29 := by omega
  have e0 : (0 : Int) ≤ (k : Int) := by omega
  have e9 : (k : Int) < 19 := by omega
  have e1 : ((k : Int) == -1) = false := beq_eq_false_iff_ne.2 (by omega)
  rw [HV.out]
  have FIN : Hid (∀ v : Int, v = (S : Int) → Ending.returned (.tuple #[.int .i32 v, .bool true]) = .returned (.tuple #[.int .i32 (S : Int), .bool true])) := Lib.hid (fun v h => by rw [h])
  clear hs hS hD h1 HV
  unfold consB at HX
  go_enter Tryd.func25, Tryd.ntmps25
  go_wp2_with (go_at_call 28; refine (HX.out _).mono ?_; rintro e2 w2 ⟨rfl, rfl⟩)
  go_ret2
  exact ⟨FIN.out _ (by have := HD.out; omega), (Below.refl _ _).alloc (Nat.le_refl _) _⟩
set_option maxRecDepth 100000 in
set_option maxHeartbeats 2000000 in
theorem cons_fin (f : Nat) (b : Int) (w : World) (h0 : 0 < f) (hf : f < 28) : Calls Tryd.prog 25 #[.agg #[.int .i64 (-1), .int .i64 b, .int .i64 f]] w fun e w' => e = .returned (sV (alo (100 + f))) ∧ Below w.heap.size w w' := by
  have h1 := alo_f f hf
  have HX := Lib.hid (ixC consB (97 + (f : Int)) _ (cons_f f hf))
  obtain ⟨S, hS⟩ : ∃ S, S = alo (100 + f) := ⟨_, rfl⟩
  rw [← hS] at h1 HX ⊢
  have e0 : (0 : Int) < (f : Int) := by omega
  have e9 : (f : Int) < 28 := by omega
  have e1 : ((f : Int) == 0) = false := beq_eq_false_iff_ne.2 (by omega)
  clear hS
  unfold consB at HX
  rcases h1 with rfl | h1
  · replace HX : Hid (IxC ⟨#[65, 66, 100, 67, 102, 103, 68, 69, 70, 106, 107, 108, 109, 110, 111, 112, 71, 72, 73, 115, 74, 75, 76, 77, 78, 79, 80, 81, 82, 83]⟩ (97 + (f : Int)) (-1)) := HX
    go_enter Tryd.func25, Tryd.ntmps25
    go_wp2_with (go_at_call 28; refine (HX.out _).mono ?_; rintro e2 w2 ⟨rfl, rfl⟩)
    go_ret2
    exact ⟨rfl, (Below.refl _ _).alloc (Nat.le_refl _) _⟩
  · obtain ⟨D, hD⟩ : ∃ D : Int, D = (S : Int) - 12593 := ⟨_, rfl⟩
    have hs : coI S = D := by unfold coI; rw [if_neg (by omega), hD]
    rw [hs] at HX
    have HD := Lib.hid hD
    have d0 : 0 ≤ D := by omega
    have d1 : D ≤ 29 := by omega
    have FIN : Hid (∀ v : Int, v = (S : Int) → Ending.returned (.tuple #[.int .i32 v, .bool true]) = .returned (sV S)) := Lib.hid (fun v h => by rw [h]; unfold sV; rw [decide_eq_true (by omega)])
    clear hs hD h1
    go_enter Tryd.func25, Tryd.ntmps25
    go_wp2_with (go_at_call 28; refine (HX.out _).mono ?_; rintro e2 w2 ⟨rfl, rfl⟩)
    go_ret2
    exact ⟨FIN.out _ (by have := HD.out; omega), (Below.refl _ _).alloc (Nat.le_refl _) _⟩
end Go.Proofs.YtiamabeapomabaaDoor.jo
