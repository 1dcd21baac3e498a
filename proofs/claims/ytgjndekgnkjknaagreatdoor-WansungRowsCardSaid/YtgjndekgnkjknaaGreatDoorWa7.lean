/- The walks of WansungRanks, WansungPlaces, WansungSigns. -/
import Derived.Test.YtgjndekgnkjknaaGreatDoorWa6
namespace Go.Proofs.YtgjndekgnkjknaaGreatDoor.wa
open Go.RowKit Go.Lib
set_option linter.unusedVariables false
theorem plV_tup (k : Int) (b : Bool) : ∃ (z : Int) (t : Bool), plV k b = .tuple #[.int .i32 z, .bool t] := ⟨_, _, rfl⟩
theorem plV_hit {b : Bool} {n : Nat} (hn : n < 11172) (h : inB n = b) : plV ((rk b n : Nat) : Int) b = .tuple #[.int .i32 (44032 + (n : Int)), .bool true] := by
  have h1 := plI_some (rk_lt hn h)
  unfold plV
  rw [h1.1, kth_rank hn h]
  have e : ((44032 + n : Nat) : Int) = 44032 + (n : Int) := by omega
  rw [e]
  have : ((44032 + (n : Int)) != 0) = true := by
    rw [bne, beq_eq_false_iff_ne.2 (show (44032 + (n : Int)) ≠ 0 by omega)]; rfl
  rw [this]
theorem rkV_syl {p : Int} {n : Nat} (hp : p = 44032 + (n : Int)) (hn : n < 11172) : rkV p = .tuple #[.int .i64 ((rk (inB n) n : Nat) : Int), .bool (inB n), .bool true] := by
  unfold rkV
  rw [if_pos (by omega), show (p - 44032).toNat = n by omega]
theorem rkV_not {p : Int} (h : ¬ (44032 ≤ p ∧ p ≤ 55203)) : rkV p = .tuple #[.int .i64 0, .bool false, .bool false] := if_neg h
end Go.Proofs.YtgjndekgnkjknaaGreatDoor.wa
