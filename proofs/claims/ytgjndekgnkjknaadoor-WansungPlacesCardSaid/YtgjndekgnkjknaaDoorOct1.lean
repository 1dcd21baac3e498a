/- Numbers that a reader reads: contracts over whatever Take answers. -/
import Derived.Test.YtgjndekgnkjknaaDoorOct0
import Derived.Deep.LoopGhost
namespace Go.Proofs.YtgjndekgnkjknaaDoor.oct
open Go.RowKit
theorem int_eq {k : IntKind} {a b : Int} (h : a = b) : Value.int k a = Value.int k b := by rw [h]
def num (l : List UInt8) : Nat := l.foldl (fun a c => a * 256 + c.toNat) 0
theorem num_snoc (l : List UInt8) (c : UInt8) : num (l ++ [c]) = num l * 256 + c.toNat := by simp [num]
theorem num_lt_aux : ∀ (n : Nat) (l : List UInt8), l.length = n → num l < 256 ^ n
  | 0, l, h => by rw [List.length_eq_zero_iff.1 h]; simp [num]
  | n + 1, l, h => by
    have hne : l ≠ [] := by intro e; rw [e] at h; simp at h
    have := num_lt_aux n l.dropLast (by simp [h])
    rw [← List.dropLast_concat_getLast hne, num_snoc, Nat.pow_succ]
    have := (l.getLast hne).toNat_lt
    omega
theorem num_lt (l : List UInt8) : num l < 256 ^ l.length := num_lt_aux _ l rfl
theorem num_le (l : List UInt8) (k : Nat) (h : l.length ≤ k) : num l < 256 ^ k := Nat.lt_of_lt_of_le (num_lt l) (Nat.pow_le_pow_right (by omega) h)
theorem pow_le7 (k : Nat) (h : k ≤ 7) : 256 ^ k ≤ 72057594037927936 := (Nat.pow_le_pow_right (n := 256) (by omega) h : 256 ^ k ≤ 256 ^ 7)
theorem or_add (a b : Nat) (i : Nat) (h : b < 2 ^ i) : (a * 2 ^ i) ||| b = a * 2 ^ i + b := by
  rw [Nat.mul_comm]; exact (Nat.two_pow_add_eq_or_of_lt h a).symm
theorem or_step (a : Nat) (c : UInt8) (h : a < 72057594037927936) : bits BinOp.or IntKind.u64 (IntKind.u64.wrap ((a : Int) * 256)) (IntKind.u64.wrap (c.toNat : Int)) = ((a * 256 + c.toNat : Nat) : Int) := by
  have hc := c.toNat_lt
  have e1 : IntKind.u64.wrap ((a : Int) * 256) = ((a * 256 : Nat) : Int) := by rw [IntWalk.u64_in _ (by omega)]; simp
  have e2 : IntKind.u64.wrap (c.toNat : Int) = ((c.toNat : Nat) : Int) := by rw [IntWalk.u64_in _ (by omega)]
  rw [e1, e2, u64_or_nat _ _ (by omega) (by omega), show a * 256 = a * 2 ^ 8 from rfl, or_add _ _ 8 (by omega)]
theorem take_snoc (s : ByteArray) (k : Nat) (h : k < s.size) : s.data.toList.take (k + 1) = s.data.toList.take k ++ [s[k]] := by
  rw [List.take_succ_eq_append_getElem (by simpa using h)]; rfl
theorem drop_rev (s : ByteArray) (j : Nat) (h : j < s.size) : (s.data.toList.drop j).reverse = (s.data.toList.drop (j + 1)).reverse ++ [s[j]] := by
  rw [List.drop_eq_getElem_cons (by simpa using h), List.reverse_cons]; rfl
def num7 (l : List UInt8) : Nat := l.foldl (fun a c => a * 128 + c.toNat) 0
theorem num7_snoc (l : List UInt8) (c : UInt8) : num7 (l ++ [c]) = num7 l * 128 + c.toNat := by simp [num7]
theorem num7_lt : ∀ (n : Nat) (l : List UInt8), l.length ≤ n → (∀ c ∈ l, c.toNat < 128) → num7 l < 128 ^ n
  | 0, l, h, _ => by rw [List.length_eq_zero_iff.1 (show l.length = 0 from by omega)]; simp [num7]
  | n + 1, l, h, hc => by
    by_cases hne : l = []
    · subst hne; simp [num7]; exact Nat.pow_pos (by omega)
    have h1 := num7_lt n l.dropLast (by simp; omega) (fun c hm => hc c (List.dropLast_subset l hm))
    have h2 := hc _ (List.getLast_mem hne)
    rw [← List.dropLast_concat_getLast hne, num7_snoc, Nat.pow_succ]
    omega
theorem i64_or_nat (a b : Nat) (h : (a ||| b) < 9223372036854775808) (ha : a < 9223372036854775808) (hb : b < 9223372036854775808) : bits .or .i64 (a : Int) (b : Int) = ((a ||| b : Nat) : Int) := by
  show IntKind.i64.wrap ((BitVec.ofInt 64 (a : Int) ||| BitVec.ofInt 64 (b : Int)).toNat : Int) = _
  rw [BitVec.toNat_or, ofInt_u64 a (by omega), ofInt_u64 b (by omega)]
  exact IntWalk.i64_in _ (by omega)
theorem or_step7 (a : Nat) (c : UInt8) (h : a < 2097152) (hc : c.toNat < 128) : bits BinOp.or IntKind.i64 (wrap64 ((a : Int) * 128)) (c.toNat : Int) = ((a * 128 + c.toNat : Nat) : Int) := by
  have e1 : wrap64 ((a : Int) * 128) = ((a * 128 : Nat) : Int) := by rw [← IntWalk.i64_left, IntWalk.i64_in _ (by omega)]; simp
  have e3 : (a * 128) ||| c.toNat = a * 128 + c.toNat := by rw [show a * 128 = a * 2 ^ 7 from rfl, or_add _ _ 7 (by omega)]
  rw [e1, i64_or_nat _ _ (by omega) (by omega) (by omega), e3]
theorem mem_at (s : ByteArray) (k : Nat) (h : k < s.size) : s[k] ∈ s.data.toList := List.getElem_mem (l := s.data.toList) (by simpa using h)
end Go.Proofs.YtgjndekgnkjknaaDoor.oct
