/- Several texts in one. -/
import Derived.Test.YtiigknimfibdpaaGreatDoorZ13
import Derived.BigQuiet
import Derived.Deep.QuietTactic
import Derived.Test.YtiigknimfibdpaaGreatDoorZ4
namespace Go.Proofs.YtiigknimfibdpaaGreatDoor.jo
open Go.RowKit Go.Lib
set_option linter.unusedVariables false
theorem k0_size : K0.size = 20 := rfl
theorem k1_size : K1.size = 22 := rfl
theorem k2_size : K2.size = 28 := rfl
theorem or_int (x y : Int) (i : Nat) (hx : 0 ≤ x) (hm : x % 2 ^ i = 0) (hx1 : x < 2147483648) (hy : 0 ≤ y) (hy1 : y < 2 ^ i) (hy2 : y < 2147483648) : bits .or .i64 x y = x + y :=
  bits_join .i64 31 (by decide) (fun n a b => wrap64 (by omega) (by omega)) i x y hx hm (by omega) hy hy1 (by omega)
theorem index_at (t : TypeId) (s : ByteArray) (i : Nat) (hi : i < s.size) (w : World) (h : Tryz.prog.underlying t = some .string) : (Instr.index t (.string s) (.int .i64 (i : Int))).run Tryz.prog w = .ok (.int .u8 ((s[i]).toNat : Int)) w := by
  rw [run_index_string w t s .i64 i h]
  simp [hi]
set_option maxRecDepth 100000 in
set_option maxHeartbeats 4000000 in
theorem pcode_core (i j k : Nat) (x y z : Int) (w : World) (hK : KD w) (hi : i < K0.size) (hj : j < K1.size) (hk : k < K2.size)
    (hx : ((K0[i]).toNat : Int) = x) (hy : ((K1[j]).toNat : Int) = y) (hz : ((K2[k]).toNat : Int) = z)
    (o0 : bits .or .i64 32768 (x * 1024) = 32768 + x * 1024) (o1 : bits .or .i64 (32768 + x * 1024) (y * 32) = 32768 + x * 1024 + y * 32) (o2 : bits .or .i64 (32768 + x * 1024 + y * 32) z = 32768 + x * 1024 + y * 32 + z)
    (x0 : 0 ≤ x ∧ x < 32) (y0 : 0 ≤ y ∧ y < 32) (z0 : 0 ≤ z ∧ z < 32) :
    Calls Tryz.prog 134 #[.agg #[.int .i64 ((i : Int) - 1), .int .i64 ((j : Int) - 1), .int .i64 k]] w fun e w' => e = .returned (.int .i64 (32768 + x * 1024 + y * 32 + z)) ∧ Below w.heap.size w w' := by
  have HK := Lib.hid hK
  have HO0 := Lib.hid o0; have HO1 := Lib.hid o1; have HO2 := Lib.hid o2
  have HX := Lib.hid hx; have HY := Lib.hid hy; have HZ := Lib.hid hz
  have n0 := fun wx => show (Instr.index 156 (.agg #[.int .i64 ((i : Int) - 1), .int .i64 ((j : Int) - 1), .int .i64 k]) (.int .i64 0)).run Tryz.prog wx = .ok (.int .i64 ((i : Int) - 1)) wx by kernel_rfl
  have n1 := fun wx => show (Instr.index 156 (.agg #[.int .i64 ((i : Int) - 1), .int .i64 ((j : Int) - 1), .int .i64 k]) (.int .i64 1)).run Tryz.prog wx = .ok (.int .i64 ((j : Int) - 1)) wx by kernel_rfl
  have n2 := fun wx => show (Instr.index 156 (.agg #[.int .i64 ((i : Int) - 1), .int .i64 ((j : Int) - 1), .int .i64 k]) (.int .i64 2)).run Tryz.prog wx = .ok (.int .i64 k) wx by kernel_rfl
  clear hK o0 o1 o2 hx hy hz
  go_enter Tryz.func134, Tryz.ntmps134
  go_wp2_with fail
  go_loopw [3, 7] (fun c t wr => ∃ (C : Int) (n : Int), Hid (KD wr ∧ Below w.heap.size w wr) ∧ c = .int .i64 C ∧ t = .int .i64 n ∧ Hid ((n = 0 ∧ C = 32768) ∨ (n = 1 ∧ C = 32768 + x * 1024) ∨ (n = 2 ∧ C = 32768 + x * 1024 + y * 32) ∨ (n = 3 ∧ C = 32768 + x * 1024 + y * 32 + z))) (fun _ t _ => 3 - (RowKit.intOf t).toNat)
  case atStart => exact ⟨32768, 0, Lib.hid ⟨HK.out.below ((Below.refl _ _).alloc (Nat.le_refl _) _) HK.out.lt, (Below.refl _ _).alloc (Nat.le_refl _) _⟩, rfl, rfl, Lib.hid (.inl ⟨rfl, rfl⟩)⟩
  case round =>
    obtain ⟨C, n, hw, rfl, rfl, hc⟩ := hrel
    rcases hc.out with ⟨rfl, rfl⟩ | ⟨rfl, rfl⟩ | ⟨rfl, rfl⟩ | ⟨rfl, rfl⟩
    · have c0 := hw.out.1.c0; have c1 := hw.out.1.c1; have c2 := hw.out.1.c2
      have i0 := fun wx => index_at 9 K0 i hi wx Tryz.underlying9
      rw [HX.out] at i0
      have wi : IntKind.i64.wrap (i : Int) = (i : Int) := wrap64 (by omega) (by have := hi; rw [k0_size] at this; omega)
      have oo := HO0.out
      go_wp2_with fail
      go_quiet (fail)
      go_wp2_with fail
      go_roundw
      case rel => exact ⟨_, 1, Lib.hid ⟨hw.out.1.below (below_drewN (Below.refl _ _) _) hw.out.1.lt, below_drewN hw.out.2 _⟩, rfl, rfl, Lib.hid (by omega)⟩
      case measure => simp [RowKit.intOf]
    · have c3 := hw.out.1.c3; have c4 := hw.out.1.c4; have c5 := hw.out.1.c5
      have i0 := fun wx => index_at 9 K1 j hj wx Tryz.underlying9
      rw [HY.out] at i0
      have wi : IntKind.i64.wrap (j : Int) = (j : Int) := wrap64 (by omega) (by have := hj; rw [k1_size] at this; omega)
      have oo := HO1.out
      go_wp2_with fail
      go_quiet (fail)
      go_wp2_with fail
      go_roundw
      case rel => exact ⟨_, 2, Lib.hid ⟨hw.out.1.below (below_drewN (Below.refl _ _) _) hw.out.1.lt, below_drewN hw.out.2 _⟩, rfl, rfl, Lib.hid (by omega)⟩
      case measure => simp [RowKit.intOf]
    · have c6 := hw.out.1.c6; have c7 := hw.out.1.c7; have c8 := hw.out.1.c8
      have i0 := fun wx => index_at 9 K2 k hk wx Tryz.underlying9
      rw [HZ.out] at i0
      have wi : IntKind.i64.wrap (k : Int) = (k : Int) := wrap64 (by omega) (by have := hk; rw [k2_size] at this; omega)
      have oo := HO2.out
      go_wp2_with fail
      go_quiet (fail)
      go_wp2_with fail
      go_roundw
      case rel => exact ⟨_, 3, Lib.hid ⟨hw.out.1.below (below_drewN (Below.refl _ _) _) hw.out.1.lt, below_drewN hw.out.2 _⟩, rfl, rfl, Lib.hid (by omega)⟩
      case measure => simp [RowKit.intOf]
    · go_wp2_with fail
      go_ret
      exact ⟨rfl, hw.out.2⟩
end Go.Proofs.YtiigknimfibdpaaGreatDoor.jo
namespace Go.Proofs.YtiigknimfibdpaaGreatDoor.jo
open Go.RowKit Go.Lib
set_option linter.unusedVariables false
def aggP (a b d : Int) : Value := .agg #[.int .i64 a, .int .i64 b, .int .i64 d]
set_option maxRecDepth 100000 in
set_option maxHeartbeats 1000000 in
theorem letter_any (l : Int) (w : World) (h0 : 65 ≤ l) (h1 : l ≤ 255) : Calls Tryz.prog 174 #[.int .u8 l] w fun e w' => e = .returned (if 97 ≤ l then aggP (-1) (-1) (l - 97) else aggP (l - 65) (-1) 0) ∧ Below w.heap.size w w' := by
  by_cases h : 97 ≤ l
  · rw [if_pos h]
    obtain ⟨a3, a0, a1, a2, a4⟩ := f3_new w (-1) (-1) (l - 97) 156
    have w1 : IntKind.u8.wrap (l - 97) = l - 97 := by rw [IntKind.wrap_u8]; omega
    have w2 : IntKind.i64.wrap (l - 97) = l - 97 := wrap64 (by omega) (by omega)
    go_enter Tryz.func174, Tryz.ntmps174
    go_wp2_with fail
    refine bodyPost_ret (v := aggP (-1) (-1) (l - 97)) ?_ rfl ⟨rfl, (Below.refl w.heap.size w).alloc (Nat.le_refl _) _⟩
    simp [results, aggP, Tryz.results174, go_sem, a0, a1, a2]
  · rw [if_neg h]
    obtain ⟨a3, a0, a1, a2, a4⟩ := f3_new w (l - 65) (-1) 0 156
    have w1 : IntKind.u8.wrap (l - 65) = l - 65 := by rw [IntKind.wrap_u8]; omega
    have w2 : IntKind.i64.wrap (l - 65) = l - 65 := wrap64 (by omega) (by omega)
    go_enter Tryz.func174, Tryz.ntmps174
    go_wp2_with fail
    refine bodyPost_ret (v := aggP (l - 65) (-1) 0) ?_ rfl ⟨rfl, (Below.refl w.heap.size w).alloc (Nat.le_refl _) _⟩
    simp [results, aggP, Tryz.results174, go_sem, a0, a1, a2]
def tupP (v : Value) (b : Bool) : Value := .tuple #[v, .bool b]
set_option maxRecDepth 100000 in
set_option maxHeartbeats 1000000 in
theorem pos_syl (p n : Int) (w : World) (hp : p = 44032 + n) (h0 : 0 ≤ n) (h1 : n < 11172) : Calls Tryz.prog 132 #[.int .i32 p] w fun e w' => e = .returned (tupP (aggP (n / 28 / 21) (n / 28 % 21) (n % 28)) true) ∧ Below w.heap.size w w' := by
  obtain ⟨a3, a0, a1, a2, a4⟩ := f3_new w (n / 28 / 21) (n / 28 % 21) (n % 28) 156
  have n0 : 44032 ≤ p := by omega
  have n1 : p ≤ 55203 := by omega
  have e1 : IntKind.i32.wrap (p - 44032) = n := by rw [wrap32 (by omega) (by omega)]; omega
  have e2 : p - 44032 = n := by omega
  clear hp
  go_enter Tryz.func132, Tryz.ntmps132
  go_wp2_with fail
  refine bodyPost_ret (v := tupP (aggP (n / 28 / 21) (n / 28 % 21) (n % 28)) true) ?_ rfl ⟨rfl, (Below.refl w.heap.size w).alloc (Nat.le_refl _) _⟩
  simp [results, aggP, tupP, Tryz.results132, go_sem, a0, a1, a2]
set_option maxRecDepth 100000 in
set_option maxHeartbeats 1000000 in
theorem pos_med (p n : Int) (w : World) (hp : p = 12623 + n) (h0 : 0 ≤ n) (h1 : n ≤ 20) : Calls Tryz.prog 132 #[.int .i32 p] w fun e w' => e = .returned (tupP (aggP (-1) n 0) true) ∧ Below w.heap.size w w' := by
  obtain ⟨a3, a0, a1, a2, a4⟩ := f3_new w (-1) n 0 156
  have n0 : ¬ 44032 ≤ p := by omega
  have n1 : p ≤ 12643 := by omega
  have n2 : 12623 ≤ p := by omega
  have e1 : IntKind.i32.wrap (p - 12623) = n := by rw [wrap32 (by omega) (by omega)]; omega
  have e2 : p - 12623 = n := by omega
  clear hp
  go_enter Tryz.func132, Tryz.ntmps132
  go_wp2_with fail
  refine bodyPost_ret (v := tupP (aggP (-1) n 0) true) ?_ rfl ⟨rfl, (Below.refl w.heap.size w).alloc (Nat.le_refl _) _⟩
  simp [results, aggP, tupP, Tryz.results132, go_sem, a0, a1, a2]
theorem index_at32 (t : TypeId) (s : ByteArray) (i : Nat) (hi : i < s.size) (w : World) (h : Tryz.prog.underlying t = some .string) : (Instr.index t (.string s) (.int .i32 (i : Int))).run Tryz.prog w = .ok (.int .u8 ((s[i]).toNat : Int)) w := by
  rw [run_index_string w t s .i32 i h]
  simp [hi]
/-- The letter of a consonant. -/
def letL : List Nat := [65, 66, 100, 67, 102, 103, 68, 69, 70, 106, 107, 108, 109, 110, 111, 112, 71, 72, 73, 115, 74, 75, 76, 77, 78, 79, 80, 81, 82, 83]
theorem let_at : ∀ i : Fin 30, (consB[i.1]'(show i.1 < consB.size from i.2)).toNat = letL.getD i.1 0 := by decide +kernel
theorem let_le : ∀ k < 30, 65 ≤ letL.getD k 0 ∧ letL.getD k 0 ≤ 115 := by decide
set_option maxRecDepth 100000 in
set_option maxHeartbeats 2000000 in
theorem pos_con (p : Int) (k : Nat) (a b d : Int) (w : World) (hp : p = 12593 + (k : Int)) (h1 : k < 30) (hv : aggP a b d = (if 97 ≤ ((letL.getD k 0 : Nat) : Int) then aggP (-1) (-1) (((letL.getD k 0 : Nat) : Int) - 97) else aggP (((letL.getD k 0 : Nat) : Int) - 65) (-1) 0)) : Calls Tryz.prog 132 #[.int .i32 p] w fun e w' => e = .returned (tupP (aggP a b d) true) ∧ Below w.heap.size w w' := by
  have hl := let_le k h1
  have hat : (consB[k]'(show k < consB.size from h1)).toNat = letL.getD k 0 := let_at ⟨k, h1⟩
  have hix : ∀ wx, (Instr.index 9 (.string consB) (.int .i32 (k : Int))).run Tryz.prog wx = .ok (.int .u8 ((letL.getD k 0 : Nat) : Int)) wx := fun wx => by rw [← hat]; exact index_at32 9 consB k h1 wx Tryz.underlying9
  generalize letL.getD k 0 = l at *
  have HL := Lib.hid (fun w2 => letter_any l w2 (by omega) (by omega))
  rw [← hv] at HL
  have n0 : ¬ 44032 ≤ p := by omega
  have n1 : p ≤ 12622 := by omega
  have n2 : 12593 ≤ p := by omega
  have n3 : ¬ 12623 ≤ p := by omega
  have e1 : IntKind.i32.wrap (p - 12593) = (k : Int) := by rw [wrap32 (by omega) (by omega)]; omega
  have e2 : p - 12593 = (k : Int) := by omega
  have lt := f3_new w 0 0 0 156
  have LT := Lib.hid lt
  clear hp hv hl hat lt
  unfold consB at hix
  unfold aggP at HL
  go_enter Tryz.func132, Tryz.ntmps132
  go_wp2_with (go_at_call 174; refine (HL.out _).mono ?_; rintro e2 w2 ⟨rfl, hb2⟩; have G0 := Lib.hid (LT.out.below hb2 LT.out.lt); have HB2 := Lib.hid (((Below.refl w.heap.size w).alloc (Nat.le_refl _) _).trans (hb2.mono (by simp))); obtain ⟨a3, a0, a1, a2, a4⟩ := G0.out; clear hb2)
  refine bodyPost_ret (v := tupP (aggP a b d) true) ?_ rfl ⟨rfl, ((HB2.out.setCell (p := ⟨w.heap.size, 0, none⟩) (Nat.le_refl _) _).setCell (p := ⟨w.heap.size, 1, none⟩) (Nat.le_refl _) _).setCell (p := ⟨w.heap.size, 2, none⟩) (Nat.le_refl _) _⟩
  simp [results, aggP, tupP, Tryz.results132, go_sem, a0, a1, a2]
end Go.Proofs.YtiigknimfibdpaaGreatDoor.jo
