/- The document's own answers of layer 1 (numbers): contracts, and the plain lemmas on digits. -/
import Derived.Test.YtkhajafjieofhaaOct5
namespace Go.Proofs.Ytkhajafjieofhaa.oct
open Go.RowKit
set_option linter.unusedVariables false
theorem foldB (B : Nat) : ∀ (l : List UInt8) (a : Nat), l.foldl (fun a c => a * B + c.toNat) a = a * B ^ l.length + l.foldl (fun a c => a * B + c.toNat) 0
  | [], a => by simp
  | c :: l, a => by
    rw [List.foldl_cons, List.foldl_cons, foldB B l (a * B + c.toNat), foldB B l (0 * B + c.toNat), List.length_cons, Nat.pow_succ, Nat.add_mul, Nat.zero_mul, Nat.zero_add, Nat.mul_assoc, Nat.mul_comm B, Nat.add_assoc]
theorem fold_bigL (B : Nat) (h0 : 0 < B) (h1 : B ≤ 256) : ∀ m n, (bigL B m n).foldl (fun a c => a * B + c.toNat) 0 = n % B ^ m
  | 0, n => by simp [bigL, Nat.mod_one]
  | m + 1, n => by
    have hm := Nat.mod_lt (n / B ^ m) h0
    have e : (UInt8.ofNat (n / B ^ m % B)).toNat = n / B ^ m % B := by simp; omega
    simp only [bigL, List.foldl_cons, Nat.zero_mul, Nat.zero_add]
    rw [foldB, fold_bigL B h0 h1 m n, bigL_len, e, Nat.pow_succ, Nat.mod_mul, Nat.mul_comm (B ^ m)]
    omega
theorem num_bigL (m n : Nat) : num (bigL 256 m n) = n % 256 ^ m := fold_bigL 256 (by omega) (by omega) m n
theorem num7_bigL (m n : Nat) : num7 (bigL 128 m n) = n % 128 ^ m := fold_bigL 128 (by omega) (by omega) m n
theorem bigL_lt (B : Nat) (h0 : 0 < B) (h1 : B ≤ 256) : ∀ m n, ∀ c ∈ bigL B m n, c.toNat < B
  | 0, n, c, h => by simp [bigL] at h
  | m + 1, n, c, h => by
    simp only [bigL, List.mem_cons] at h
    rcases h with rfl | h
    · have hm := Nat.mod_lt (n / B ^ m) h0
      simp; omega
    · exact bigL_lt B h0 h1 m n c h
/-- A literal of bytes, made a string. -/
theorem conv_lit (w : World) (l : List UInt8) : (convert 82 9 (.slice (some ⟨w.heap.size, 0, none⟩) l.length l.length)).run Try.prog (w.alloc (.cells (cellsL l).toArray 5)) = .ok (.string ⟨l.toArray⟩) (w.alloc (.cells (cellsL l).toArray 5)) :=
  run_convert_bytes_back (P := Try.prog) _ 82 9 5 ⟨w.heap.size, 0, none⟩ l.length l Try.underlying82 Try.underlying5 Try.underlying9 (fun j hj => by
    have e : (⟨w.heap.size, 0, none⟩ : Addr).add j = ⟨w.heap.size, j, none⟩ := by simp [Addr.add]; intro h; exact h.symm
    rw [e, World.cell?_alloc_mark]
    simp [cellsL, hj])
theorem dig_of (x : Nat) (B : Nat) (h0 : 0 < B) (h1 : B ≤ 256) : ((UInt8.ofNat (x % B)).toNat : Int) = (x : Int) % (B : Int) := by
  have := Nat.mod_lt x h0
  simp; omega
theorem refSafe_any (n : Nat) (w : World) (hn : n ≤ 268435455) :
    Calls Try.prog 53 #[.int .u64 n] w fun e' w' => e' = .returned (.string ⟨(bigL 128 4 n).toArray⟩) ∧ Below w.heap.size w w' := by
  obtain ⟨S, hS⟩ : ∃ S : ByteArray, S = ⟨(bigL 128 4 n).toArray⟩ := ⟨_, rfl⟩
  have hcv := conv_lit w (bigL 128 4 n)
  have e : cellsL (bigL 128 4 n) = [Value.int .u8 ((n : Int) / 2097152 % 128), .int .u8 ((n : Int) / 16384 % 128), .int .u8 ((n : Int) / 128 % 128), .int .u8 ((n : Int) % 128)] := by
    simp only [bigL, cellsL, List.map_cons, List.map_nil, dig_of _ 128 (by omega) (by omega)]
    simp
  rw [e, bigL_len, ← hS] at hcv
  rw [← hS]
  clear hS e
  go_enter Try.func53, Try.ntmps53
  go_wp2
  go_ret
  exact ⟨rfl, (Below.refl _ _).alloc (Nat.le_refl _) _⟩
theorem ext_all (t : ByteArray) (n : Nat) (h : n = t.size) : t.extract 0 (0 + n) = t := by
  apply ByteArray.ext; rw [ByteArray.data_extract]; subst h; simp
theorem rsafe_full (w : World) (b : Nat) (t : ByteArray) (bs : Int) (h : Rd w b t 0 bs 0 0) (hl : t.size = 4) (hc : ∀ c ∈ t.data.toList, c.toNat < 128) :
    Calls Try.prog 66 #[.pointer (some ⟨b, 0, none⟩)] w fun e' w' => e' = .returned (.int .i64 (num7 t.data.toList)) ∧ Rd w' b t 4 bs 0 0 ∧ Upd b w w' := by
  have ht := take_ok w b t 0 4 4 bs 0 h (by omega) (Nat.le_refl _) (by unfold maxLen; omega)
  rw [ext_all t 4 hl.symm] at ht
  exact rsafe_of _ t (fun w' => Rd w' b t 4 bs 0 0 ∧ Upd b w w') w (by omega) hc ht
end Go.Proofs.Ytkhajafjieofhaa.oct
