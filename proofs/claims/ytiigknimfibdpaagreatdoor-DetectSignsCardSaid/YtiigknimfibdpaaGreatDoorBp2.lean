/- The landed big5: pairsOfRow, Pairs: contracts. -/
import Derived.Test.YtiigknimfibdpaaGreatDoorZ25
import Derived.Test.YtiigknimfibdpaaGreatDoorTsH
import Derived.Test.YtiigknimfibdpaaGreatDoorZ24
import Derived.Deep.AppendLies
namespace Go.Proofs.YtiigknimfibdpaaGreatDoor.bp
open Go.RowKit Go.Lib
open Go.Proofs.YtiigknimfibdpaaGreatDoor.tb
open Go.Proofs.YtiigknimfibdpaaGreatDoor.bg (cell cellB one sgC ldL ldx rInt prs pr)
set_option linter.unusedVariables false
set_option maxRecDepth 100000 in
theorem second_any (c : Nat) (w : World) (hc : c < 157) : Calls Tryz.prog 214 #[.int .i64 c] w fun e w' => e = .returned (.int .i64 ((cellB c : Nat) : Int)) ∧ w = w' := by
  obtain ⟨V, hV⟩ : ∃ V : Int, V = ((cellB c : Nat) : Int) := ⟨_, rfl⟩
  rw [← hV]
  unfold bg.cellB at hV
  by_cases h : c < 63
  · rw [if_pos h] at hV
    obtain rfl : V = 64 + (c : Int) := by omega
    have g0 : (c : Int) < 63 := by omega
    have e1 : IntKind.i64.wrap (64 + (c : Int)) = 64 + (c : Int) := wrap64 (by omega) (by omega)
    clear hV hc h
    go_enter Tryz.func214, Tryz.ntmps214
    go_wp2
    go_ret
    exact ⟨rfl, rfl⟩
  · rw [if_neg h] at hV
    obtain rfl : V = 161 + (c : Int) - 63 := by omega
    have g0 : ¬ (c : Int) < 63 := by omega
    have e1 : IntKind.i64.wrap (161 + (c : Int)) = 161 + (c : Int) := wrap64 (by omega) (by omega)
    have e2 : IntKind.i64.wrap (161 + (c : Int) - 63) = 161 + (c : Int) - 63 := wrap64 (by omega) (by omega)
    clear hV hc h
    go_enter Tryz.func214, Tryz.ntmps214
    go_wp2
    go_ret
    exact ⟨rfl, rfl⟩
theorem cellB_le {c : Nat} (h : c < 157) : cellB c ≤ 254 := by unfold bg.cellB; split <;> omega
set_option maxRecDepth 100000 in
theorem codeC_any (l c : Nat) (w : World) (hl : l < 256) (hc : c < 157) : Calls Tryz.prog 189 #[.int .u8 l, .int .i64 c] w fun e w' => e = .returned (.int .i64 ((l * 256 + cellB c : Nat) : Int)) ∧ w = w' := by
  have HS := Lib.hid (fun W => second_any c W hc)
  have hb := cellB_le hc
  rw [show ((l * 256 + cellB c : Nat) : Int) = (l : Int) * 256 + ((cellB c : Nat) : Int) by omega]
  generalize hB : ((cellB c : Nat) : Int) = B at *
  generalize hL : (l : Int) = L
  generalize (c : Int) = C at *
  have o := or_int (L * 256) B 8 (by omega) (by omega) (by omega) (by omega) (by omega) (by omega)
  have e0 : IntKind.i64.wrap (L * 256) = L * 256 := wrap64 (by omega) (by omega)
  have e8 : IntKind.i64.wrap L = L := wrap64 (by omega) (by omega)
  clear hL hB hl hc hb
  go_enter Tryz.func189, Tryz.ntmps189
  go_wp2_with (go_at_call 214; refine (HS.out _).mono ?_; rintro e1 w1 ⟨rfl, rfl⟩)
  go_ret
  exact ⟨rfl, rfl⟩
end Go.Proofs.YtiigknimfibdpaaGreatDoor.bp
