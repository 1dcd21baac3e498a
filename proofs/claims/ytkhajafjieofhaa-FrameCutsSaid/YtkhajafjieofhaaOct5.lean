/- A reader that is none reads no numbers; the document's example of layer 1 (awake): contracts. -/
import Derived.Test.YtkhajafjieofhaaOctA
namespace Go.Proofs.Ytkhajafjieofhaa.oct
open Go.RowKit
set_option linter.unusedVariables false
theorem rbig_nil (n : Int) (w : World) (h0 : -9223372036854775808 ≤ n) (h1 : n ≤ 9223372036854775807) : Calls Try.prog 65 #[.pointer none, .int .i64 n] w fun e w' => e = .returned (.int .u64 0) ∧ Below w.heap.size w w' :=
  rbig_of (.pointer none) n _ ⟨#[]⟩ (Below w.heap.size w) w h0 h1 rfl (by decide) (take_nil _ w)
theorem rsafe_nil (w : World) : Calls Try.prog 66 #[.pointer none] w fun e w' => e = .returned (.int .i64 0) ∧ Below w.heap.size w w' :=
  rsafe_of (.pointer none) ⟨#[]⟩ (Below w.heap.size w) w (by decide) (by intro c h; cases h) (take_nil _ w)
theorem safe_129 (w : World) : Calls Try.prog 59 #[.int .u64 129] w fun e' w' => e' = .returned (.tuple #[.string ⟨#[0, 0, 1, 1]⟩, .bool true]) ∧ Below w.heap.size w w' := safe_ok 129 w (by omega)
theorem big_258 (w : World) : Calls Try.prog 58 #[.int .u64 258, .int .i64 2] w fun e' w' => e' = .returned (.string ⟨#[1, 2]⟩) ∧ Below w.heap.size w w' := big_any 258 2 2 w (by omega) (by omega) rfl (by omega)
theorem Awake_any (w : World) : Calls Try.prog 56 #[] w fun e w' => e = .returned (.bool true) ∧ Below w.heap.size w w' := by
  go_enter Try.func56, Try.ntmps56
  go_wp2_with (first | (go_at_call 59; refine (safe_129 _).mono ?_; rintro e1 w1 ⟨rfl, hb1⟩) | (go_at_call 29; refine (inner_any ⟨#[97, 98]⟩ 10 _).mono ?_; rintro e2 w2 ⟨rfl, hR, hb2⟩; have HR := Lib.hid hR; clear hR) | (go_at_call 49; refine (take_short _ _ _ 0 2 3 _ _ HR.out rfl (Or.inr (by omega)) (by decide) (by omega) (by omega)).mono ?_; rintro e2 w3 ⟨rfl, hR3, hU⟩; have HR3 := Lib.hid hR3; clear hR3) | (go_at_call 58; refine (big_258 _).mono ?_; rintro e2 w4 ⟨rfl, hb4⟩; have H4 := Lib.hid (HR3.out.below hb4 HR3.out.lt)) | (go_at_call 30; refine (fault_some _ _ 1 12 H4.out.lt H4.out.c3 H4.out.c4).mono ?_; rintro e2 w5 ⟨rfl, hb5⟩))
  go_ret
  have g1 : Below w.heap.size w w2 := hb1.trans (hb2.mono hb1.size)
  have g2 : Below w.heap.size w w3 := Upd.below g1 hU hb1.size g1.size
  have g3 : Below w.heap.size w w4 := g2.trans (hb4.mono g2.size)
  exact ⟨rfl, g3.trans (hb5.mono g3.size)⟩
end Go.Proofs.Ytkhajafjieofhaa.oct
