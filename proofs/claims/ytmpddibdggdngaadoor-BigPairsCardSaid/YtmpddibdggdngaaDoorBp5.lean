/- The landed big5: what the document's example asks of Bytes; the example. -/
import Derived.Test.YtmpddibdggdngaaDoorBp3
import Derived.Test.YtmpddibdggdngaaDoorBp4
import Derived.Test.YtmpddibdggdngaaDoorShelf
import Derived.WalkMore
namespace Go.Proofs.YtmpddibdggdngaaDoor.bp
open Go.RowKit Go.Lib
open Go.Proofs.YtmpddibdggdngaaDoor.tb
open Go.Proofs.YtmpddibdggdngaaDoor.bg (cell cellB sgC rInt)
set_option linter.unusedVariables false
theorem cv202 (wx : World) : (convert 21 9 (.int .i32 202)).run Tryd.prog wx = .ok (.string ⟨#[195, 138]⟩) wx := by kernel_rfl
theorem sl_r1 (wx : World) : (Instr.slice 9 (.string ⟨#[196, 128, 195, 129, 199, 141, 195, 128, 196, 146, 195, 137, 196, 154, 195, 136, 197, 140, 195, 147, 199, 145, 195, 146]⟩) (some (.int .i64 2)) none none).run Tryd.prog wx = .ok (.string ⟨#[195, 129, 199, 141, 195, 128, 196, 146, 195, 137, 196, 154, 195, 136, 197, 140, 195, 147, 199, 145, 195, 146]⟩) wx := by kernel_rfl
theorem sl_r2 (wx : World) : (Instr.slice 9 (.string ⟨#[225, 186, 190]⟩) (some (.int .i64 2)) none none).run Tryd.prog wx = .ok (.string ⟨#[190]⟩) wx := by kernel_rfl
theorem sl_r3 (wx : World) : (Instr.slice 9 (.string ⟨#[225, 187, 128, 195, 138, 196, 129, 195, 161, 199, 142, 195, 160, 201, 145, 196, 147, 195, 169, 196, 155, 195, 168, 196, 171, 195, 173, 199, 144, 195, 172, 197, 141]⟩) (some (.int .i64 2)) none none).run Tryd.prog wx = .ok (.string ⟨#[128, 195, 138, 196, 129, 195, 161, 199, 142, 195, 160, 201, 145, 196, 147, 195, 169, 196, 155, 195, 168, 196, 171, 195, 173, 199, 144, 195, 172, 197, 141]⟩) wx := by kernel_rfl
def VR : Prop := ∀ W : World, Calls Tryd.prog 45 #[.int .i32 202] W fun e w' => e = .returned (.bool true) ∧ W = w'
theorem vr202 : VR := fun W => (Tryd.utf8_ValidRune 202 W).mono fun e w' h => ⟨h.1, h.2.symm⟩
set_option maxRecDepth 1000000 in
set_option maxHeartbeats 2000000 in
theorem ir1 (w : World) : Calls Tryd.prog 39 #[.string r1, .int .i32 202] w fun e w' => e = .returned (.int .i64 (-1)) ∧ Below w.heap.size w w' := by
  have HV := Lib.hid vr202
  unfold VR at HV
  have hcv := cv202; have hsl := sl_r1; have e2 : IntKind.i64.wrap 2 = 2 := rfl
  unfold r1
  go_enter Tryd.func39, Tryd.ntmps39
  go_wp2_with (go_at_call 45; refine (HV.out _).mono ?_; rintro e1 w1 ⟨rfl, rfl⟩)
  go_step3
  go_wp2_with fail
  go_loopw [9, 10] (fun i f wr => i = .int .i64 1 ∧ f = .int .i64 0 ∧ Below w.heap.size w wr) (fun _ _ _ => 0)
  case atStart => exact ⟨rfl, rfl, Below.refl _ _⟩
  case round =>
    obtain ⟨rfl, rfl, hB⟩ := hrel
    have HB := Lib.hid hB
    clear hB
    go_wp2_with fail
    go_step3
    go_wp2_with fail
    go_region_held3 (fun _ => True) (trivial) (fail)
    all_goals
      go_wp2_with fail
      go_region_held3 (fun _ => True) (trivial) (first | (go_at_call 48; refine (Tryd.strings_IndexByte _ _ _).mono ?_; rintro e1 w1 ⟨rfl, rfl⟩))
    all_goals
      go_wp2_with fail
    all_goals
      rw [Exit.noGoto_ret]
      go_wp2_with fail
      rw [Exit.noGoto_ret]
      go_wp2_with fail
      go_ret
      exact ⟨rfl, HB.out.drew.drew⟩
set_option maxRecDepth 1000000 in
set_option maxHeartbeats 2000000 in
theorem ir2 (w : World) : Calls Tryd.prog 39 #[.string r2, .int .i32 202] w fun e w' => e = .returned (.int .i64 (-1)) ∧ Below w.heap.size w w' := by
  have HV := Lib.hid vr202
  unfold VR at HV
  have hcv := cv202; have hsl := sl_r2; have e2 : IntKind.i64.wrap 2 = 2 := rfl
  unfold r2
  go_enter Tryd.func39, Tryd.ntmps39
  go_wp2_with (go_at_call 45; refine (HV.out _).mono ?_; rintro e1 w1 ⟨rfl, rfl⟩)
  go_step3
  go_wp2_with fail
  go_loopw [9, 10] (fun i f wr => i = .int .i64 1 ∧ f = .int .i64 0 ∧ Below w.heap.size w wr) (fun _ _ _ => 0)
  case atStart => exact ⟨rfl, rfl, Below.refl _ _⟩
  case round =>
    obtain ⟨rfl, rfl, hB⟩ := hrel
    have HB := Lib.hid hB
    clear hB
    go_wp2_with fail
    go_step3
    go_wp2_with fail
    go_region_held3 (fun _ => True) (trivial) (fail)
    all_goals
      go_wp2_with fail
      go_region_held3 (fun _ => True) (trivial) (first | (go_at_call 48; refine (Tryd.strings_IndexByte _ _ _).mono ?_; rintro e1 w1 ⟨rfl, rfl⟩))
    all_goals
      go_wp2_with fail
    all_goals
      rw [Exit.noGoto_ret]
      go_wp2_with fail
      rw [Exit.noGoto_ret]
      go_wp2_with fail
      go_ret
      exact ⟨rfl, HB.out.drew.drew⟩
set_option maxRecDepth 1000000 in
set_option maxHeartbeats 2000000 in
theorem ir3 (w : World) : Calls Tryd.prog 39 #[.string r3, .int .i32 202] w fun e w' => e = .returned (.int .i64 3) ∧ Below w.heap.size w w' := by
  have HV := Lib.hid vr202
  unfold VR at HV
  have hcv := cv202; have hsl := sl_r3; have e2 : IntKind.i64.wrap 2 = 2 := rfl
  unfold r3
  go_enter Tryd.func39, Tryd.ntmps39
  go_wp2_with (go_at_call 45; refine (HV.out _).mono ?_; rintro e1 w1 ⟨rfl, rfl⟩)
  go_step3
  go_wp2_with fail
  go_loopw [9, 10] (fun i f wr => i = .int .i64 1 ∧ f = .int .i64 0 ∧ Below w.heap.size w wr) (fun _ _ _ => 0)
  case atStart => exact ⟨rfl, rfl, Below.refl _ _⟩
  case round =>
    obtain ⟨rfl, rfl, hB⟩ := hrel
    have HB := Lib.hid hB
    clear hB
    go_wp2_with fail
    go_step3
    go_wp2_with fail
    go_region_held3 (fun _ => True) (trivial) (fail)
    all_goals
      go_wp2_with fail
      go_region_held3 (fun _ => True) (trivial) (first | (go_at_call 48; refine (Tryd.strings_IndexByte _ _ _).mono ?_; rintro e1 w1 ⟨he, rfl⟩; obtain rfl : e1 = .returned (.int .i64 2) := he.trans (congrArg (fun x => Ending.returned (.int .i64 x)) (by decide +kernel)); clear he))
    all_goals
      go_wp2_with fail
      go_loopw [12] (fun j wr => (j = .int .i64 1 ∨ j = .int .i64 2) ∧ Below w.heap.size w wr) (fun j _ => 2 - (RowKit.intOf j).toNat)
    all_goals
      try (case atStart => exact ⟨.inl rfl, HB.out.drew.drew⟩)
    all_goals
      obtain ⟨hj, hB2⟩ := hrel
      have HB2 := Lib.hid hB2
      clear hB2
      rcases hj with rfl | rfl
      · go_wp2_with fail
        go_region_held3 (fun _ => True) (trivial) (fail)
        all_goals
          go_wp2_with fail
          go_roundw
        all_goals
          first | exact ⟨.inr rfl, HB2.out.drew⟩ | decide
      · go_wp2_with fail
        rw [Exit.noGoto_ret]
        go_wp2_with fail
        rw [Exit.noGoto_ret]
        go_wp2_with fail
        go_ret
        exact ⟨rfl, HB2.out⟩
end Go.Proofs.YtmpddibdggdngaaDoor.bp
