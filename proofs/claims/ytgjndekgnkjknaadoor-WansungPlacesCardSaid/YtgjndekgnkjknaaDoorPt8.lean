/- Decoding, as numbers: what a place's sign is. -/
import Derived.Test.YtgjndekgnkjknaaDoorPt5
import Derived.Lib.DecodeN
namespace Go.Proofs.YtgjndekgnkjknaaDoor.pt
open Go.RowKit Go.Lib
set_option linter.unusedVariables false
/-- What goes on: six bits, or -1. -/
def moN (n b : Nat) : Int := if 0 < n ∧ 128 ≤ b ∧ b ≤ 191 then (b : Int) - 128 else -1
/-- The document's answer, by numbers. -/
def refN (n b0 b1 b2 b3 : Nat) : Int × Int :=
  if b0 < 128 then (b0, 1)
  else if b0 < 192 then (0, 0)
  else if b0 < 224 then
    (if moN (n - 1) b1 = -1 then (0, 0) else if ((b0 : Int) - 192) * 64 + moN (n - 1) b1 < 128 then (0, 0) else (((b0 : Int) - 192) * 64 + moN (n - 1) b1, 2))
  else if b0 < 240 then
    (if moN (n - 1) b1 = -1 then (0, 0) else if moN (n - 2) b2 = -1 then (0, 0) else
      let q := (((b0 : Int) - 224) * 64 + moN (n - 1) b1) * 64 + moN (n - 2) b2
      if q < 2048 ∨ (55296 ≤ q ∧ q ≤ 57343) then (0, 0) else (q, 3))
  else if b0 < 248 then
    (if moN (n - 1) b1 = -1 then (0, 0) else if moN (n - 2) b2 = -1 then (0, 0) else if moN (n - 3) b3 = -1 then (0, 0) else
      let q := ((((b0 : Int) - 240) * 64 + moN (n - 1) b1) * 64 + moN (n - 2) b2) * 64 + moN (n - 3) b3
      if q < 65536 ∨ 1114111 < q then (0, 0) else (q, 4))
  else (0, 0)
set_option maxRecDepth 100000 in
set_option maxHeartbeats 4000000 in
theorem refN_eq (n b0 b1 b2 b3 : Nat) (hn : 1 ≤ n) (h0 : b0 < 256) (h1 : b1 < 256) (h2 : b2 < 256) (h3 : b3 < 256) :
    refN n b0 b1 b2 b3 = if decodeN n b0 b1 b2 b3 = (65533, 1) then (0, 0) else (((decodeN n b0 b1 b2 b3).1 : Int), ((decodeN n b0 b1 b2 b3).2 : Int)) := by
  by_cases c0 : b0 < 128
  · unfold refN decodeN
    simp [c0]
    omega
  by_cases c1 : b0 < 192
  · have e : decodeN n b0 b1 b2 b3 = (65533, 1) := by
      unfold decodeN
      rw [if_neg c0, if_neg (by omega), if_neg (by omega), if_neg (by omega)]
    rw [e]; unfold refN; rw [if_neg c0, if_pos c1]; rfl
  by_cases c2 : b0 < 224
  · unfold refN
    rw [if_neg c0, if_neg c1, if_pos c2]
    by_cases k1 : 1 < n ∧ 128 ≤ b1 ∧ b1 ≤ 191
    · have m1 : moN (n - 1) b1 = (b1 : Int) - 128 := by unfold moN; rw [if_pos (by omega)]
      have e : decodeN n b0 b1 b2 b3 = if b0 % 32 * 64 + b1 % 64 ≥ 128 then (b0 % 32 * 64 + b1 % 64, 2) else (65533, 1) := by
        unfold decodeN; rw [if_neg c0, if_pos (by omega)]
      by_cases q : ((b0 : Int) - 192) * 64 + ((b1 : Int) - 128) < 128
      · rw [if_neg (by omega)] at e
        rw [e, m1, if_neg (by omega), if_pos q]; rfl
      · rw [if_pos (by omega)] at e
        rw [e, m1, if_neg (by omega), if_neg q, if_neg (by simp)]
        simp only [Prod.mk.injEq]
        omega
    · have m1 : moN (n - 1) b1 = -1 := by unfold moN; rw [if_neg (by omega)]
      have e : decodeN n b0 b1 b2 b3 = (65533, 1) := by
        unfold decodeN
        rw [if_neg c0, if_neg (by omega), if_neg (by omega), if_neg (by omega)]
      rw [e, m1]; rfl
  by_cases c3 : b0 < 240
  · unfold refN
    rw [if_neg c0, if_neg c1, if_neg c2, if_pos c3]
    by_cases k : (1 < n ∧ 128 ≤ b1 ∧ b1 ≤ 191) ∧ (2 < n ∧ 128 ≤ b2 ∧ b2 ≤ 191)
    · obtain ⟨k1, k2⟩ := k
      have m1 : moN (n - 1) b1 = (b1 : Int) - 128 := by unfold moN; rw [if_pos (by omega)]
      have m2 : moN (n - 2) b2 = (b2 : Int) - 128 := by unfold moN; rw [if_pos (by omega)]
      obtain ⟨Q, hQ⟩ : ∃ Q, Q = b0 % 16 * 4096 + b1 % 64 * 64 + b2 % 64 := ⟨_, rfl⟩
      have e : decodeN n b0 b1 b2 b3 = if Q ≥ 2048 ∧ (Q < 55296 ∨ (57344 ≤ Q ∧ Q ≤ 1114111)) then (Q, 3) else (65533, 1) := by
        subst hQ; unfold decodeN; rw [if_neg c0, if_neg (by omega), if_pos (by omega)]
      have q : (((b0 : Int) - 224) * 64 + ((b1 : Int) - 128)) * 64 + ((b2 : Int) - 128) = (Q : Int) := by omega
      have hQ2 : Q < 65536 := by omega
      by_cases z : (Q : Int) < 2048 ∨ (55296 ≤ (Q : Int) ∧ (Q : Int) ≤ 57343)
      · rw [if_neg (by omega)] at e
        rw [e, m1, m2, if_neg (by omega), if_neg (by omega)]
        simp only [q]
        rw [if_pos z]; rfl
      · rw [if_pos (by omega)] at e
        rw [e, m1, m2, if_neg (by omega), if_neg (by omega)]
        simp only [q]
        rw [if_neg z, if_neg (by simp)]; rfl
    · have e : decodeN n b0 b1 b2 b3 = (65533, 1) := by
        unfold decodeN
        rw [if_neg c0, if_neg (by omega), if_neg (by omega), if_neg (by omega)]
      rw [e]
      by_cases k1 : 1 < n ∧ 128 ≤ b1 ∧ b1 ≤ 191
      · have m1 : moN (n - 1) b1 = (b1 : Int) - 128 := by unfold moN; rw [if_pos (by omega)]
        have m2 : moN (n - 2) b2 = -1 := by unfold moN; rw [if_neg (by omega)]
        rw [m1, m2, if_neg (by omega)]; rfl
      · have m1 : moN (n - 1) b1 = -1 := by unfold moN; rw [if_neg (by omega)]
        rw [m1]; rfl
  by_cases c4 : b0 < 248
  · unfold refN
    rw [if_neg c0, if_neg c1, if_neg c2, if_neg c3, if_pos c4]
    by_cases k : (1 < n ∧ 128 ≤ b1 ∧ b1 ≤ 191) ∧ (2 < n ∧ 128 ≤ b2 ∧ b2 ≤ 191) ∧ (3 < n ∧ 128 ≤ b3 ∧ b3 ≤ 191)
    · obtain ⟨k1, k2, k3⟩ := k
      have m1 : moN (n - 1) b1 = (b1 : Int) - 128 := by unfold moN; rw [if_pos (by omega)]
      have m2 : moN (n - 2) b2 = (b2 : Int) - 128 := by unfold moN; rw [if_pos (by omega)]
      have m3 : moN (n - 3) b3 = (b3 : Int) - 128 := by unfold moN; rw [if_pos (by omega)]
      obtain ⟨Q, hQ⟩ : ∃ Q, Q = b0 % 8 * 262144 + b1 % 64 * 4096 + b2 % 64 * 64 + b3 % 64 := ⟨_, rfl⟩
      have e : decodeN n b0 b1 b2 b3 = if Q ≥ 65536 ∧ (Q < 55296 ∨ (57344 ≤ Q ∧ Q ≤ 1114111)) then (Q, 4) else (65533, 1) := by
        subst hQ; unfold decodeN; rw [if_neg c0, if_neg (by omega), if_neg (by omega), if_pos (by omega)]
      have q : ((((b0 : Int) - 240) * 64 + ((b1 : Int) - 128)) * 64 + ((b2 : Int) - 128)) * 64 + ((b3 : Int) - 128) = (Q : Int) := by omega
      by_cases z : (Q : Int) < 65536 ∨ 1114111 < (Q : Int)
      · rw [if_neg (by omega)] at e
        rw [e, m1, m2, m3, if_neg (by omega), if_neg (by omega), if_neg (by omega)]
        simp only [q]
        rw [if_pos z]; rfl
      · rw [if_pos (by omega)] at e
        rw [e, m1, m2, m3, if_neg (by omega), if_neg (by omega), if_neg (by omega)]
        simp only [q]
        rw [if_neg z, if_neg (by simp)]; rfl
    · have e : decodeN n b0 b1 b2 b3 = (65533, 1) := by
        unfold decodeN
        rw [if_neg c0, if_neg (by omega), if_neg (by omega), if_neg (by omega)]
      rw [e]
      by_cases k1 : 1 < n ∧ 128 ≤ b1 ∧ b1 ≤ 191
      · have m1 : moN (n - 1) b1 = (b1 : Int) - 128 := by unfold moN; rw [if_pos (by omega)]
        by_cases k2 : 2 < n ∧ 128 ≤ b2 ∧ b2 ≤ 191
        · have m2 : moN (n - 2) b2 = (b2 : Int) - 128 := by unfold moN; rw [if_pos (by omega)]
          have m3 : moN (n - 3) b3 = -1 := by unfold moN; rw [if_neg (by omega)]
          rw [m1, m2, m3, if_neg (by omega), if_neg (by omega)]; rfl
        · have m2 : moN (n - 2) b2 = -1 := by unfold moN; rw [if_neg (by omega)]
          rw [m1, m2, if_neg (by omega)]; rfl
      · have m1 : moN (n - 1) b1 = -1 := by unfold moN; rw [if_neg (by omega)]
        rw [m1]; rfl
  · have e : decodeN n b0 b1 b2 b3 = (65533, 1) := by
      unfold decodeN
      rw [if_neg c0, if_neg (by omega), if_neg (by omega), if_neg (by omega)]
    rw [e]; unfold refN
    rw [if_neg c0, if_neg c1, if_neg c2, if_neg c3, if_neg c4]; rfl
end Go.Proofs.YtgjndekgnkjknaaDoor.pt
