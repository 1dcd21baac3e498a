/- Layer 6 (johab), plainly: how many codes have a sign, and the sum of their signs. -/
import Derived.Test.YtiamabeapomabaaDoorJo0
namespace Go.Proofs.YtiamabeapomabaaDoor.jo
set_option linter.unusedVariables false
/-- Of so many codes from s on: how many have a sign, and the sum of these. -/
def cnt (s : Nat) : Nat → Nat
  | 0 => 0
  | n + 1 => cnt s n + (if sgn (s + n) = 0 then 0 else 1)
def sm (s : Nat) : Nat → Nat
  | 0 => 0
  | n + 1 => sm s n + sgn (s + n)
theorem cnt_add (s n : Nat) : ∀ m, cnt s (n + m) = cnt s n + cnt (s + n) m
  | 0 => rfl
  | m + 1 => by
    show cnt s (n + m) + (if sgn (s + (n + m)) = 0 then 0 else 1) = cnt s n + (cnt (s + n) m + (if sgn (s + n + m) = 0 then 0 else 1))
    rw [← Nat.add_assoc s n m, cnt_add s n m]
    omega
theorem sm_add (s n : Nat) : ∀ m, sm s (n + m) = sm s n + sm (s + n) m
  | 0 => rfl
  | m + 1 => by
    show sm s (n + m) + sgn (s + (n + m)) = sm s n + (sm (s + n) m + sgn (s + n + m))
    rw [← Nat.add_assoc s n m, sm_add s n m]
    omega
def totC : Nat → Nat
  | 0 => 0
  | a + 1 => totC a + cnt (32768 + 256 * a) 256
def totS : Nat → Nat
  | 0 => 0
  | a + 1 => totS a + sm (32768 + 256 * a) 256
theorem totC_is : ∀ a, totC a = cnt 32768 (256 * a)
  | 0 => rfl
  | a + 1 => by
    show totC a + _ = _
    rw [totC_is a, Nat.mul_succ, cnt_add]
theorem totS_is : ∀ a, totS a = sm 32768 (256 * a)
  | 0 => rfl
  | a + 1 => by
    show totS a + _ = _
    rw [totS_is a, Nat.mul_succ, sm_add]
theorem cnt_all : cnt 32768 32768 = 11223 := by
  have h : totC 128 = 11223 := by decide +kernel
  rw [totC_is] at h
  exact h
theorem sm_all : sm 32768 32768 = 554970228 := by
  have h : totS 128 = 554970228 := by decide +kernel
  rw [totS_is] at h
  exact h
/-- All codes repeat (first | (with_reducible exact Below.refl _ _) | (with_reducible refine Below.setCell ?_ (by simp) _) | (with_reducible refine Below.alloc ?_ (by simp) _)) one that have a sign, with these. -/
def prs : Nat → List (Int × Int)
  | 0 => []
  | n + 1 => prs n ++ (if sgn (32768 + n) = 0 then [] else [(((32768 + n : Nat) : Int), ((sgn (32768 + n) : Nat) : Int))])
theorem prs_len : ∀ n, (prs n).length = cnt 32768 n
  | 0 => rfl
  | n + 1 => by
    unfold prs cnt
    rw [List.length_append, prs_len n]
    split <;> simp
theorem prs_mem : ∀ (n : Nat) (q : Int × Int), q ∈ prs n ↔ ∃ c : Nat, c < n ∧ sgn (32768 + c) ≠ 0 ∧ q = (((32768 + c : Nat) : Int), ((sgn (32768 + c) : Nat) : Int))
  | 0, q => by simp [prs]
  | n + 1, q => by
    unfold prs
    rw [List.mem_append, prs_mem n q]
    constructor
    · rintro (⟨c, h1, h2, h3⟩ | h)
      · exact ⟨c, by omega, h2, h3⟩
      · split at h
        · cases h
        · rename_i h0
          exact ⟨n, by omega, h0, List.mem_singleton.1 h⟩
    · rintro ⟨c, h1, h2, h3⟩
      by_cases hc : c < n
      · exact .inl ⟨c, hc, h2, h3⟩
      · obtain rfl : c = n := by omega
        right
        rw [if_neg h2]
        exact List.mem_singleton.2 h3
theorem prs_srt : ∀ n, (prs n).Pairwise (fun a b => a.1 < b.1)
  | 0 => List.Pairwise.nil
  | n + 1 => by
    unfold prs
    refine List.pairwise_append.2 ⟨prs_srt n, ?_, fun a ha b hb => ?_⟩
    · split
      · exact List.Pairwise.nil
      · exact List.pairwise_singleton _ _
    · obtain ⟨c, h1, h2, rfl⟩ := (prs_mem n a).1 ha
      split at hb
      · cases hb
      · rw [List.mem_singleton] at hb
        subst hb
        show ((32768 + c : Nat) : Int) < ((32768 + n : Nat) : Int)
        omega
end Go.Proofs.YtiamabeapomabaaDoor.jo
