/- The document's own answers of layer 1, more of them: Size, Power, Big, Small, Back: contracts. -/
import Derived.Test.YtkhajafjieofhaaOct6
import Derived.ShutString
namespace Go.Proofs.Ytkhajafjieofhaa.oct
open Go.RowKit
set_option linter.unusedVariables false
theorem refSize_any (z : Int) (m : Nat) (w : World) (h0 : -9223372036854775808 ≤ z) (h1 : z ≤ 9223372036854775807) (hm : min (max z 0) 8 = m) :
    Calls Try.prog 69 #[.int .i64 z] w fun e' w' => e' = .returned (.int .i64 m) ∧ w = w' := by
  have HM := Lib.hid hm
  clear hm
  go_enter Try.func69, Try.ntmps69
  go_wp2
  all_goals
    go_ret
    exact ⟨ret_int (by have := HM.out; omega), rfl⟩
theorem pow_le6 (k : Nat) (h : k ≤ 6) : 256 ^ k ≤ 72057594037927935 := Nat.le_trans (Nat.pow_le_pow_right (n := 256) (by omega) h : 256 ^ k ≤ 256 ^ 6) (by decide)
theorem str_eq {a b : ByteArray} (h : a = b) : Value.string a = .string b := by rw [h]
theorem big_snoc (n k p : Nat) (s d : ByteArray) (hp : p = n / 256 ^ k) (hs : s = ⟨(bigL 256 k n).toArray⟩) (hd : d = ⟨[UInt8.ofNat (p % 256)].toArray⟩) : d ++ s = ⟨(bigL 256 (k + 1) n).toArray⟩ := by
  subst hp hs hd
  rw [ByteArray.mk_append_mk]
  simp [bigL]
set_option maxRecDepth 100000 in
theorem refBig_any (n : Nat) (z : Int) (m : Nat) (w : World) (h0 : -9223372036854775808 ≤ z) (h1 : z ≤ 9223372036854775807) (hm : min (max z 0) 8 = m) (hn : n ≤ 18446744073709551615) :
    Calls Try.prog 52 #[.int .u64 n, .int .i64 z] w fun e' w' => e' = .returned (.string ⟨(bigL 256 m n).toArray⟩) ∧ Below w.heap.size w w' := by
  have HM := Lib.hid hm
  have hm8 : m ≤ 8 := by omega
  clear hm
  go_enter Try.func52, Try.ntmps52
  go_wp2
  go_loopw [0, 5, 6] (fun nn s i wr => ∃ k : Nat, k ≤ m ∧ i = .int .i64 k ∧ nn = .int .u64 ((n / 256 ^ k : Nat) : Int) ∧ s = .string ⟨(bigL 256 k n).toArray⟩ ∧ Below w.heap.size w wr) (fun _ _ i _ => m - (intOf i).toNat)
  case atStart => exact ⟨0, Nat.zero_le _, rfl, by simp, rfl, Below.refl _ _⟩
  case round =>
    obtain ⟨k, hk, rfl, rfl, rfl, hbel⟩ := hrel
    by_cases hlt : k < m
    · obtain ⟨p, hp⟩ : ∃ p, p = n / 256 ^ k := ⟨_, rfl⟩
      have hpn : p ≤ 18446744073709551615 := by rw [hp]; exact Nat.le_trans (Nat.div_le_self _ _) hn
      have hs : (⟨(bigL 256 k n).toArray⟩ : ByteArray).size ≤ 8 := by simp [ByteArray.size, bigL_len]; omega
      obtain ⟨s, hss⟩ : ∃ s : ByteArray, s = ⟨(bigL 256 k n).toArray⟩ := ⟨_, rfl⟩
      have hcv := conv_lit wr [UInt8.ofNat (p % 256)]
      have e : cellsL [UInt8.ofNat (p % 256)] = [Value.int .u8 ((p : Int) % 256)] := by simp [cellsL]
      rw [e, List.length_singleton] at hcv
      obtain ⟨d, hd⟩ : ∃ d : ByteArray, d = ⟨[UInt8.ofNat (p % 256)].toArray⟩ := ⟨_, rfl⟩
      have hds : d.size = 1 := by rw [hd]; rfl
      rw [← hd] at hcv
      rw [← hss] at hs ⊢
      have HP := Lib.hid hp; have HS := Lib.hid hss; have HD := Lib.hid hd
      rw [← hp]
      clear hp hss hd e
      go_wp2_with (go_at_call 69; refine (refSize_any _ _ _ (by omega) (by omega) HM.out).mono ?_; rintro e1 w1 ⟨rfl, rfl⟩)
      go_roundw
      case rel => exact ⟨k + 1, by omega, by go_num, int_eq (div_step' n k p HP.out), str_eq (big_snoc n k p s d HP.out HS.out HD.out), (hbel.alloc hbel.size _)⟩
      case measure => simp [intOf]; omega
    · obtain rfl : k = m := by omega
      clear hlt
      go_wp2_with (go_at_call 69; refine (refSize_any _ _ _ (by omega) (by omega) HM.out).mono ?_; rintro e1 w1 ⟨rfl, rfl⟩)
      go_ret
      exact ⟨rfl, hbel⟩
theorem small_snoc (n k p : Nat) (s d : ByteArray) (hp : p = n / 256 ^ k) (hs : s = ⟨(bigL 256 k n).reverse.toArray⟩) (hd : d = ⟨[UInt8.ofNat (p % 256)].toArray⟩) : s ++ d = ⟨(bigL 256 (k + 1) n).reverse.toArray⟩ := by
  subst hp hs hd
  rw [ByteArray.mk_append_mk]
  simp [bigL]
theorem slice_1 (t : ByteArray) (k : Nat) (h : k < t.size) (wx : World) : (Instr.slice 9 (.string t) (some (.int .i64 (k : Int))) (some (.int .i64 ((k : Int) + 1))) none).run Try.prog wx = .ok (.string (t.extract k (k + 1))) wx := by
  rw [run_slice_string _ _ _ _ _ _ _ Try.underlying9 (by omega) (by omega) (by omega)]
  rfl
theorem ext_one (t : ByteArray) (k : Nat) (h : k < t.size) : (t.extract k (k + 1)).data.toList = [t[k]] := by
  rw [ByteArray.data_extract]
  simp only [Array.toList_extract]
  rw [List.extract_eq_take_drop, List.drop_eq_getElem_cons (by simpa using h)]
  simp
  rfl
/-- A text, the last byte first. -/
def rev (t : ByteArray) : ByteArray := ⟨t.data.toList.reverse.toArray⟩
theorem rev_snoc (t s : ByteArray) (k : Nat) (h : k < t.size) (hs : s = ⟨(t.data.toList.take k).reverse.toArray⟩) : t.extract k (k + 1) ++ s = ⟨(t.data.toList.take (k + 1)).reverse.toArray⟩ := by
  subst hs
  rw [take_snoc t k h, List.reverse_append, List.reverse_singleton]
  apply ByteArray.ext
  rw [ByteArray.data_append]
  apply Array.ext'
  rw [Array.toList_append, ext_one t k h]
end Go.Proofs.Ytkhajafjieofhaa.oct
