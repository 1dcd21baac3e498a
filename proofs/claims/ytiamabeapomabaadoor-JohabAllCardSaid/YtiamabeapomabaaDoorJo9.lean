/- The landed johab: code of parts: a contract. -/
import Derived.Test.YtiamabeapomabaaDoorJo5
import Derived.BigQuiet
import Derived.Deep.QuietTactic
namespace Go.Proofs.YtiamabeapomabaaDoor.jo
open Go.RowKit Go.Lib
set_option linter.unusedVariables false
theorem k0_size : K0.size = 20 := rfl
theorem k1_size : K1.size = 22 := rfl
theorem k2_size : K2.size = 28 := rfl
theorem or_int (x y : Int) (i : Nat) (hx : 0 ≤ x) (hm : x % 2 ^ i = 0) (hx1 : x < 2147483648) (hy : 0 ≤ y) (hy1 : y < 2 ^ i) (hy2 : y < 2147483648) : bits .or .i64 x y = x + y :=
  bits_join .i64 31 (by decide) (fun n a b => wrap64 (by omega) (by omega)) i x y hx hm (by omega) hy hy1 (by omega)
theorem index_at (t : TypeId) (s : ByteArray) (i : Nat) (hi : i < s.size) (w : World) (h : Tryd.prog.underlying t = some .string) : (Instr.index t (.string s) (.int .i64 (i : Int))).run Tryd.prog w = .ok (.int .u8 ((s[i]).toNat : Int)) w := by
  rw [run_index_string w t s .i64 i h]
  simp [hi]
set_option maxRecDepth 100000 in
set_option maxHeartbeats 4000000 in
theorem pcode_core (i j k : Nat) (x y z : Int) (w : World) (hK : KD w) (hi : i < K0.size) (hj : j < K1.size) (hk : k < K2.size)
    (hx : ((K0[i]).toNat : Int) = x) (hy : ((K1[j]).toNat : Int) = y) (hz : ((K2[k]).toNat : Int) = z)
    (o0 : bits .or .i64 32768 (x * 1024) = 32768 + x * 1024) (o1 : bits .or .i64 (32768 + x * 1024) (y * 32) = 32768 + x * 1024 + y * 32) (o2 : bits .or .i64 (32768 + x * 1024 + y * 32) z = 32768 + x * 1024 + y * 32 + z)
    (x0 : 0 ≤ x ∧ x < 32) (y0 : 0 ≤ y ∧ y < 32) (z0 : 0 ≤ z ∧ z < 32) :
    Calls Tryd.prog 22 #[.agg #[.int .i64 ((i : Int) - 1), .int .i64 ((j : Int) - 1), .int .i64 k]] w fun e w' => e = .returned (.int .i64 (32768 + x * 1024 + y * 32 + z)) ∧ Below w.heap.size w w' := by
  have HK := Lib.hid hK
  have HO0 := Lib.hid o0; have HO1 := Lib.hid o1; have HO2 := Lib.hid o2
  have HX := Lib.hid hx; have HY := Lib.hid hy; have HZ := Lib.hid hz
  have n0 := fun wx => show (Instr.index 39 (.agg #[.int .i64 ((i : Int) - 1), .int .i64 ((j : Int) - 1), .int .i64 k]) (.int .i64 0)).run Tryd.prog wx = .ok (.int .i64 ((i : Int) - 1)) wx by kernel_rfl
  have n1 := fun wx => show (Instr.index 39 (.agg #[.int .i64 ((i : Int) - 1), .int .i64 ((j : Int) - 1), .int .i64 k]) (.int .i64 1)).run Tryd.prog wx = .ok (.int .i64 ((j : Int) - 1)) wx by kernel_rfl
  have n2 := fun wx => show (Instr.index 39 (.agg #[.int .i64 ((i : Int) - 1), .int .i64 ((j : Int) - 1), .int .i64 k]) (.int .i64 2)).run Tryd.prog wx = .ok (.int .i64 k) wx by kernel_rfl
  clear hK o0 o1 o2 hx hy hz
  go_enter Tryd.func22, Tryd.ntmps22
  go_wp2_with fail
  go_loopw [3, 7] (fun c t wr => ∃ (C : Int) (n : Int), Hid (KD wr ∧ Below w.heap.size w wr) ∧ c = .int .i64 C ∧ t = .int .i64 n ∧ Hid ((n = 0 ∧ C = 32768) ∨ (n = 1 ∧ C = 32768 + x * 1024) ∨ (n = 2 ∧ C = 32768 + x * 1024 + y * 32) ∨ (n = 3 ∧ C = 32768 + x * 1024 + y * 32 + z))) (fun _ t _ => 3 - (RowKit.intOf t).toNat)
  case atStart => exact ⟨32768, 0, Lib.hid ⟨HK.out.below ((Below.refl _ _).alloc (Nat.le_refl _) _) HK.out.lt, (Below.refl _ _).alloc (Nat.le_refl _) _⟩, rfl, rfl, Lib.hid (.inl ⟨rfl, rfl⟩)⟩
  case round =>
    obtain ⟨C, n, hw, rfl, rfl, hc⟩ := hrel
    rcases hc.out with ⟨rfl, rfl⟩ | ⟨rfl, rfl⟩ | ⟨rfl, rfl⟩ | ⟨rfl, rfl⟩
    · have c0 := hw.out.1.c0; have c1 := hw.out.1.c1; have c2 := hw.out.1.c2
      have i0 := fun wx => index_at 9 K0 i hi wx Tryd.underlying9
      rw [HX.out] at i0
      have wi : IntKind.i64.wrap (i : Int) = (i : Int) := wrap64 (by omega) (by have := hi; rw [k0_size] at this; omega)
      have oo := HO0.out
      go_wp2_with fail
      go_quiet (fail)
      go_wp2_with fail
      go_roundw
      case rel => exact ⟨_, 1, Lib.hid ⟨hw.out.1.below (below_drewN (Below.refl _ _) _) hw.out.1.lt, below_drewN hw.out.2 _⟩, rfl, rfl, Lib.hid (by omega)⟩
      case measure => simp [RowKit.intOf]
    · have c3 := hw.out.1.c3; have c4 := hw.out.1.c4; have c5 := hw.out.1.c5
      have i0 := fun wx => index_at 9 K1 j hj wx Tryd.underlying9
      rw [HY.out] at i0
      have wi : IntKind.i64.wrap (j : Int) = (j : Int) := wrap64 (by omega) (by have := hj; rw [k1_size] at this; omega)
      have oo := HO1.out
      go_wp2_with fail
      go_quiet (fail)
      go_wp2_with fail
      go_roundw
      case rel => exact ⟨_, 2, Lib.hid ⟨hw.out.1.below (below_drewN (Below.refl _ _) _) hw.out.1.lt, below_drewN hw.out.2 _⟩, rfl, rfl, Lib.hid (by omega)⟩
      case measure => simp [RowKit.intOf]
    · have c6 := hw.out.1.c6; have c7 := hw.out.1.c7; have c8 := hw.out.1.c8
      have i0 := fun wx => index_at 9 K2 k hk wx Tryd.underlying9
      rw [HZ.out] at i0
      have wi : IntKind.i64.wrap (k : Int) = (k : Int) := wrap64 (by omega) (by have := hk; rw [k2_size] at this; omega)
      have oo := HO2.out
      go_wp2_with fail
      go_quiet (fail)
      go_wp2_with fail
      go_roundw
      case rel => exact ⟨_, 3, Lib.hid ⟨hw.out.1.below (below_drewN (Below.refl _ _) _) hw.out.1.lt, below_drewN hw.out.2 _⟩, rfl, rfl, Lib.hid (by omega)⟩
      case measure => simp [RowKit.intOf]
    · go_wp2_with fail
      go_ret
      exact ⟨rfl, hw.out.2⟩
end Go.Proofs.YtiamabeapomabaaDoor.jo
