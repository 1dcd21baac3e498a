/- Several texts in one. -/
import Derived.Test.YtiigknimfibdpaaGreatDoorZ25
import Derived.Test.YtiigknimfibdpaaGreatDoorBp2
import Derived.Test.YtiigknimfibdpaaGreatDoorShelf
import Derived.WalkMore
import Derived.Test.YtiigknimfibdpaaGreatDoorZ24
namespace Go.Proofs.YtiigknimfibdpaaGreatDoor.bp
open Go.RowKit Go.Lib
open Go.Proofs.YtiigknimfibdpaaGreatDoor.tb
open Go.Proofs.YtiigknimfibdpaaGreatDoor.bg (cell cellB sgC rInt)
set_option linter.unusedVariables false
theorem cv202 (wx : World) : (convert 21 9 (.int .i32 202)).run Tryz.prog wx = .ok (.string ⟨#[195, 138]⟩) wx := by kernel_rfl
theorem sl_r1 (wx : World) : (Instr.slice 9 (.string ⟨#[196, 128, 195, 129, 199, 141, 195, 128, 196, 146, 195, 137, 196, 154, 195, 136, 197, 140, 195, 147, 199, 145, 195, 146]⟩) (some (.int .i64 2)) none none).run Tryz.prog wx = .ok (.string ⟨#[195, 129, 199, 141, 195, 128, 196, 146, 195, 137, 196, 154, 195, 136, 197, 140, 195, 147, 199, 145, 195, 146]⟩) wx := by kernel_rfl
theorem sl_r2 (wx : World) : (Instr.slice 9 (.string ⟨#[225, 186, 190]⟩) (some (.int .i64 2)) none none).run Tryz.prog wx = .ok (.string ⟨#[190]⟩) wx := by kernel_rfl
theorem sl_r3 (wx : World) : (Instr.slice 9 (.string ⟨#[225, 187, 128, 195, 138, 196, 129, 195, 161, 199, 142, 195, 160, 201, 145, 196, 147, 195, 169, 196, 155, 195, 168, 196, 171, 195, 173, 199, 144, 195, 172, 197, 141]⟩) (some (.int .i64 2)) none none).run Tryz.prog wx = .ok (.string ⟨#[128, 195, 138, 196, 129, 195, 161, 199, 142, 195, 160, 201, 145, 196, 147, 195, 169, 196, 155, 195, 168, 196, 171, 195, 173, 199, 144, 195, 172, 197, 141]⟩) wx := by kernel_rfl
def VR : Prop := ∀ W : World, Calls Tryz.prog 159 #[.int .i32 202] W fun e w' => e = .returned (.bool true) ∧ W = w'
theorem vr202 : VR := fun W => (Tryz.utf8_ValidRune 202 W).mono fun e w' h => ⟨h.1, h.2.symm⟩
set_option maxRecDepth 1000000 in
set_option maxHeartbeats 2000000 in
theorem ir1 (w : World) : Calls Tryz.prog 188 #[.string r1, .int .i32 202] w fun e w' => e = .returned (.int .i64 (-1)) ∧ Below w.heap.size w w' := by
  have HV := Lib.hid vr202
  unfold VR at HV
  have hcv := cv202; have hsl := sl_r1; have e2 : IntKind.i64.wrap 2 = 2 := rfl
  unfold r1
  go_enter Tryz.func188, Tryz.ntmps188
  go_wp2_with (go_at_call 159; refine (HV.out _).mono ?_; rintro e1 w1 ⟨rfl, rfl⟩)
  go_step3
  go_wp2_with fail
  go_loopw [9, 10] (fun i f wr => i = .int .i64 1 ∧ f = .int .i64 0 ∧ Below w.heap.size w wr) (fun _ _ _ => 0)
  case atStart => exact ⟨rfl, rfl, Below.refl _ _⟩
  case round =>
    obtain ⟨rfl, rfl, hB⟩ := hrel
    have HB := Lib.hid hB
    clear hB
    go_wp2_with fail
    go_step3
    go_wp2_with fail
    go_region_held3 (fun _ => True) (trivial) (fail)
    all_goals
      go_wp2_with fail
      go_region_held3 (fun _ => True) (trivial) (first | (go_at_call 205; refine (Tryz.strings_IndexByte _ _ _).mono ?_; rintro e1 w1 ⟨rfl, rfl⟩))
    all_goals
      go_wp2_with fail
    all_goals
      rw [Exit.noGoto_ret]
      go_wp2_with fail
      rw [Exit.noGoto_ret]
      go_wp2_with fail
      go_ret
      exact ⟨rfl, HB.out.drew.drew⟩
set_option maxRecDepth 1000000 in
set_option maxHeartbeats 2000000 in
theorem ir2 (w : World) : Calls Tryz.prog 188 #[.string r2, .int .i32 202] w fun e w' => e = .returned (.int .i64 (-1)) ∧ Below w.heap.size w w' := by
  have HV := Lib.hid vr202
  unfold VR at HV
  have hcv := cv202; have hsl := sl_r2; have e2 : IntKind.i64.wrap 2 = 2 := rfl
  unfold r2
  go_enter Tryz.func188, Tryz.ntmps188
  go_wp2_with (go_at_call 159; refine (HV.out _).mono ?_; rintro e1 w1 ⟨rfl, rfl⟩)
  go_step3
  go_wp2_with fail
  go_loopw [9, 10] (fun i f wr => i = .int .i64 1 ∧ f = .int .i64 0 ∧ Below w.heap.size w wr) (fun _ _ _ => 0)
  case atStart => exact ⟨rfl, rfl, Below.refl _ _⟩
  case round =>
    obtain ⟨rfl, rfl, hB⟩ := hrel
    have HB := Lib.hid hB
    clear hB
    go_wp2_with fail
    go_step3
    go_wp2_with fail
    go_region_held3 (fun _ => True) (trivial) (fail)
    all_goals
      go_wp2_with fail
      go_region_held3 (fun _ => True) (trivial) (first | (go_at_call 205; refine (Tryz.strings_IndexByte _ _ _).mono ?_; rintro e1 w1 ⟨rfl, rfl⟩))
    all_goals
      go_wp2_with fail
    all_goals
      rw [Exit.noGoto_ret]
      go_wp2_with fail
      rw [Exit.noGoto_ret]
      go_wp2_with fail
      go_ret
      exact ⟨rfl, HB.out.drew.drew⟩
set_option maxRecDepth 1000000 in
set_option maxHeartbeats 2000000 in
theorem ir3 (w : World) : Calls Tryz.prog 188 #[.string r3, .int .i32 202] w fun e w' => e = .returned (.int .i64 3) ∧ Below w.heap.size w w' := by
  have HV := Lib.hid vr202
  unfold VR at HV
  have hcv := cv202; have hsl := sl_r3; have e2 : IntKind.i64.wrap 2 = 2 := rfl
  unfold r3
  go_enter Tryz.func188, Tryz.ntmps188
  go_wp2_with (go_at_call 159; refine (HV.out _).mono ?_; rintro e1 w1 ⟨rfl, rfl⟩)
  go_step3
  go_wp2_with fail
  go_loopw [9, 10] (fun i f wr => i = .int .i64 1 ∧ f = .int .i64 0 ∧ Below w.heap.size w wr) (fun _ _ _ => 0)
  case atStart => exact ⟨rfl, rfl, Below.refl _ _⟩
  case round =>
    obtain ⟨rfl, rfl, hB⟩ := hrel
    have HB := Lib.hid hB
    clear hB
    go_wp2_with fail
    go_step3
    go_wp2_with fail
    go_region_held3 (fun _ => True) (trivial) (fail)
    all_goals
      go_wp2_with fail
      go_region_held3 (fun _ => True) (trivial) (first | (go_at_call 205; refine (Tryz.strings_IndexByte _ _ _).mono ?_; rintro e1 w1 ⟨he, rfl⟩; obtain rfl : e1 = .returned (.int .i64 2) := he.trans (congrArg (fun x => Ending.returned (.int .i64 x)) (by decide +kernel)); clear he))
    all_goals
      go_wp2_with fail
      go_loopw [12] (fun j wr => (j = .int .i64 1 ∨ j = .int .i64 2) ∧ Below w.heap.size w wr) (fun j _ => 2 - (RowKit.intOf j).toNat)
    all_goals
      try (case atStart => exact ⟨.inl rfl, HB.out.drew.drew⟩)
    all_goals
      obtain ⟨hj, hB2⟩ := hrel
      have HB2 := Lib.hid hB2
      clear hB2
      rcases hj with rfl | rfl
      · go_wp2_with fail
        go_region_held3 (fun _ => True) (trivial) (fail)
        all_goals
          go_wp2_with fail
          go_roundw
        all_goals
          first | exact ⟨.inr rfl, HB2.out.drew⟩ | decide
      · go_wp2_with fail
        rw [Exit.noGoto_ret]
        go_wp2_with fail
        rw [Exit.noGoto_ret]
        go_wp2_with fail
        go_ret
        exact ⟨rfl, HB2.out⟩
end Go.Proofs.YtiigknimfibdpaaGreatDoor.bp
namespace Go.Proofs.YtiigknimfibdpaaGreatDoor.bp
open Go.RowKit Go.Lib
open Go.Proofs.YtiigknimfibdpaaGreatDoor.tb
open Go.Proofs.YtiigknimfibdpaaGreatDoor.bg (cell cellB sgC rInt)
set_option linter.unusedVariables false
theorem eq_at0 (wx : World) : (Op.equalIn 10000 165 (.agg #[.int .i32 202, .int .i32 772]) (.agg #[.int .i32 202, .int .i32 65])).run Tryz.prog wx = .ok false wx := by kernel_rfl
theorem eq_at1 (wx : World) : (Op.equalIn 10000 165 (.agg #[.int .i32 202, .int .i32 780]) (.agg #[.int .i32 202, .int .i32 65])).run Tryz.prog wx = .ok false wx := by kernel_rfl
theorem eq_at2 (wx : World) : (Op.equalIn 10000 165 (.agg #[.int .i32 234, .int .i32 772]) (.agg #[.int .i32 202, .int .i32 65])).run Tryz.prog wx = .ok false wx := by kernel_rfl
theorem eq_at3 (wx : World) : (Op.equalIn 10000 165 (.agg #[.int .i32 234, .int .i32 780]) (.agg #[.int .i32 202, .int .i32 65])).run Tryz.prog wx = .ok false wx := by kernel_rfl
set_option maxRecDepth 100000 in
set_option maxHeartbeats 4000000 in
theorem codeTwo_ex (w : World) (hD : DD w) : Calls Tryz.prog 143 #[.agg #[.int .i32 202, .int .i32 65]] w fun e w' => e = .returned (.tuple #[.int .i64 0, .bool false]) ∧ Below w.heap.size w w' := by
  have hlt0 := hD.lt
  obtain ⟨d0, d1, d2, d3, d4, d5, d6, d7, d8, d9, d10, d11⟩ := hD
  have n0 : ¬ w.heap.size = 4 := by omega
  have n1 : ¬ 4 = w.heap.size := by omega
  have y0 := eq_at0; have y1 := eq_at1; have y2 := eq_at2; have y3 := eq_at3
  have x0 := dd_at0; have x1 := dd_at1; have x2 := dd_at2; have x3 := dd_at3
  go_enter Tryz.func143, Tryz.ntmps143
  go_wp2_with fail
  go_loopw [7] (fun i wr => ∃ j : Nat, j ≤ 4 ∧ i = .int .i64 j ∧ Below (w.heap.size + 1) (w.alloc (.cells #[.int .i32 202, .int .i32 65] 165)) wr) (fun i _ => 4 - (RowKit.intOf i).toNat)
  case atStart => exact ⟨0, by omega, rfl, Below.refl _ _⟩
  case round =>
    obtain ⟨j, hj, rfl, hB⟩ := hrel
    have HB := Lib.hid hB
    have Q := Lib.hid ((q2_new w (.int .i32 202) (.int .i32 65) 165).below hB (by simp))
    have HW : Hid (Below w.heap.size w wr) := Lib.hid (((Below.refl w.heap.size w).alloc (Nat.le_refl _) _).trans (hB.mono (by simp)))
    clear hB
    by_cases hlt : j < 4
    · have hh : j = 0 ∨ j = 1 ∨ j = 2 ∨ j = 3 := by omega
      have hz : w.heap.size + 1 ≤ wr.heap.size := Q.out.lt
      rcases hh with rfl | rfl | rfl | rfl
      · have HBX := Lib.hid (HB.out.alloc hz (.cells #[.int .i64 34914, .int .i32 202, .int .i32 772] 200))
        obtain ⟨q3, q0, q1, q2⟩ := (Q.out.below ((Below.refl wr.heap.size wr).alloc (Nat.le_refl _) (.cells #[.int .i64 34914, .int .i32 202, .int .i32 772] 200)) hz)
        go_wp2_with fail
        go_roundw
        case rel => exact ⟨1, by omega, by go_num, HBX.out⟩
        case measure => simp [RowKit.intOf]
      · have HBX := Lib.hid (HB.out.alloc hz (.cells #[.int .i64 34916, .int .i32 202, .int .i32 780] 200))
        obtain ⟨q3, q0, q1, q2⟩ := (Q.out.below ((Below.refl wr.heap.size wr).alloc (Nat.le_refl _) (.cells #[.int .i64 34916, .int .i32 202, .int .i32 780] 200)) hz)
        go_wp2_with fail
        go_roundw
        case rel => exact ⟨2, by omega, by go_num, HBX.out⟩
        case measure => simp [RowKit.intOf]
      · have HBX := Lib.hid (HB.out.alloc hz (.cells #[.int .i64 34979, .int .i32 234, .int .i32 772] 200))
        obtain ⟨q3, q0, q1, q2⟩ := (Q.out.below ((Below.refl wr.heap.size wr).alloc (Nat.le_refl _) (.cells #[.int .i64 34979, .int .i32 234, .int .i32 772] 200)) hz)
        go_wp2_with fail
        go_roundw
        case rel => exact ⟨3, by omega, by go_num, HBX.out⟩
        case measure => simp [RowKit.intOf]
      · have HBX := Lib.hid (HB.out.alloc hz (.cells #[.int .i64 34981, .int .i32 234, .int .i32 780] 200))
        obtain ⟨q3, q0, q1, q2⟩ := (Q.out.below ((Below.refl wr.heap.size wr).alloc (Nat.le_refl _) (.cells #[.int .i64 34981, .int .i32 234, .int .i32 780] 200)) hz)
        go_wp2_with fail
        go_roundw
        case rel => exact ⟨4, by omega, by go_num, HBX.out⟩
        case measure => simp [RowKit.intOf]
    · obtain rfl : j = 4 := by omega
      go_wp2_with fail
      go_ret2
      exact ⟨rfl, HW.out⟩
theorem big_two (c : Nat) (w : World) (h : c < 65536) : Calls Tryz.prog 133 #[.int .u64 (c : Int), .int .i64 2] w fun e w' => e = .returned (.string (bg.two c)) ∧ Below w.heap.size w w' := by
  have h2 := oct.big_any c 2 2 w (by omega) (by omega) rfl (by omega)
  have e : (⟨(oct.bigL 256 2 c).toArray⟩ : ByteArray) = bg.two c := by
    unfold bg.two
    simp [oct.bigL]
  rw [e] at h2
  exact h2
theorem bytesOf_ex (w : World) : Calls Tryz.prog 144 #[.int .i64 34918] w fun e w' => e = .returned (.string ⟨#[136, 102]⟩) ∧ Below w.heap.size w w' := by
  have HB : Hid (∀ W, Calls Tryz.prog 133 #[.int .u64 34918, .int .i64 2] W fun e w' => e = .returned (.string ⟨#[136, 102]⟩) ∧ Below W.heap.size W w') := Lib.hid (fun W => by
    have h := big_two 34918 W (by omega)
    rw [show bg.two 34918 = ⟨#[136, 102]⟩ by decide +kernel] at h
    exact h)
  go_enter Tryz.func144, Tryz.ntmps144
  go_wp2_with (go_at_call 133; refine (HB.out _).mono ?_; rintro e1 w1 ⟨rfl, hb1⟩; have B1 := Lib.hid hb1; clear hb1)
  go_ret
  exact ⟨rfl, B1.out⟩
theorem p88_at : (rowP 136).getD 0 p0 = ⟨22, 0, 0, r1⟩ ∧ (rowP 136).getD 1 p0 = ⟨35, 0, 0, r2⟩ ∧ (rowP 136).getD 2 p0 = ⟨37, 0, 0, r3⟩ := ⟨rfl, rfl, rfl⟩
set_option maxRecDepth 1000000 in
set_option maxHeartbeats 4000000 in
theorem codeSg_ex (w : World) (hT : pt.Tabs w) : Calls Tryz.prog 145 #[.int .i32 202] w fun e w' => e = .returned (.tuple #[.int .i64 34918, .bool true]) ∧ Below w.heap.size w w' := by
  have HT := Lib.hid hT
  have HR := Lib.hid (fun W => row_88 W)
  unfold RowsOf at HR
  rw [show (rowP 136).length = 7 from rfl] at HR
  have H1 := Lib.hid (fun W => ir1 W)
  have H2 := Lib.hid (fun W => ir2 W)
  have H3 := Lib.hid (fun W => ir3 W)
  have HN : Hid (∀ W, pt.Tabs W → Calls Tryz.prog 190 #[.string ⟨#[225, 187, 128]⟩] W fun e w' => e = .returned (.int .i64 1) ∧ Below W.heap.size W w') := Lib.hid (fun W h => by
    have h2 := pt.count_any ⟨#[225, 187, 128]⟩ W (by decide) h
    rw [show (if (pt.scan ⟨#[225, 187, 128]⟩).2.isNone then ((pt.scan ⟨#[225, 187, 128]⟩).1.length : Int) else 0) = 1 by decide +kernel] at h2
    exact h2)
  have HC : Hid (∀ W, Calls Tryz.prog 189 #[.int .u8 136, .int .i64 38] W fun e w' => e = .returned (.int .i64 34918) ∧ W = w') := Lib.hid (fun W => codeC_any 136 38 W (by omega) (by omega))
  have hsl : ∀ wx : World, (Instr.slice 9 (.string r3) none (some (.int .i64 3)) none).run Tryz.prog wx = .ok (.string ⟨#[225, 187, 128]⟩) wx := fun wx => by kernel_rfl
  clear hT
  go_enter Tryz.func145, Tryz.ntmps145
  go_wp2_with fail
  go_loopw [8] (fun i wr => i = .int .i64 0 ∧ Below w.heap.size w wr) (fun _ _ => 0)
  case atStart => exact ⟨rfl, Below.refl _ _⟩
  case round =>
    obtain ⟨rfl, hB⟩ := hrel
    have HB := Lib.hid hB
    clear hB
    go_wp2_with (go_at_call 186; refine (HR.out _).mono ?_; rintro e1 w1 ⟨A, rfl, hr1, hb1⟩; have R1 := Lib.hid hr1; have B1 := Lib.hid (HB.out.trans (hb1.mono HB.out.size)); clear hr1 hb1)
    go_loopw [15] (fun i wr2 => ∃ j : Nat, j ≤ 2 ∧ i = .int .i64 j ∧ RowC wr2 A 7 7 (rowP 136) ∧ Below w.heap.size w wr2) (fun i _ => 3 - (RowKit.intOf i).toNat)
    case atStart => exact ⟨0, by omega, rfl, R1.out, B1.out⟩
    case round =>
      obtain ⟨j, hj, rfl, hrc, hB⟩ := hrel
      have HR2 := Lib.hid hrc; have HB2 := Lib.hid hB
      clear hrc hB
      have hh : j = 0 ∨ j = 1 ∨ j = 2 := by omega
      have j0 : (0 : Int) ≤ (j : Int) := by omega
      have j1 : (j : Int) < 7 := by omega
      rcases hh with hjj | hjj | hjj
      · obtain ⟨a, rfl, _, _, hcc, _, _, _⟩ := HR2.out.at j (by omega)
        rw [show (rowP 136).getD j p0 = ⟨22, 0, 0, r1⟩ by rw [hjj]; exact p88_at.1] at hcc
        obtain ⟨k0, k1, k2, k3⟩ := hcc
        dsimp only at k0 k1 k2 k3
        have HJ := Lib.hid hjj
        clear hjj
        have HX := Lib.hid (Below.alloc (HB2.out) HB2.out.size (.cells #[.int .i64 22, .int .i32 0, .int .i64 0, .string r1] 139))
        have RX := Lib.hid (HR2.out.below ((Below.refl wr.heap.size wr).alloc (Nat.le_refl _) (.cells #[.int .i64 22, .int .i32 0, .int .i64 0, .string r1] 139)))
        generalize r1 = R1' at *
        go_wp2_with (go_at_call 188; refine (H1.out _).mono ?_; rintro e2 w2 ⟨rfl, hb2⟩; have B2 := Lib.hid (HX.out.trans (hb2.mono HX.out.size)); have R2 := Lib.hid (RX.out.below hb2); clear hb2)
        go_roundw
        case rel => exact ⟨j + 1, by have := HJ.out; omega, by go_num, R2.out, B2.out⟩
        case measure => simp [RowKit.intOf]; omega
      · obtain ⟨a, rfl, _, _, hcc, _, _, _⟩ := HR2.out.at j (by omega)
        rw [show (rowP 136).getD j p0 = ⟨35, 0, 0, r2⟩ by rw [hjj]; exact p88_at.2.1] at hcc
        obtain ⟨k0, k1, k2, k3⟩ := hcc
        dsimp only at k0 k1 k2 k3
        have HJ := Lib.hid hjj
        clear hjj
        have HX := Lib.hid (Below.alloc (HB2.out) HB2.out.size (.cells #[.int .i64 35, .int .i32 0, .int .i64 0, .string r2] 139))
        have RX := Lib.hid (HR2.out.below ((Below.refl wr.heap.size wr).alloc (Nat.le_refl _) (.cells #[.int .i64 35, .int .i32 0, .int .i64 0, .string r2] 139)))
        generalize r2 = R2' at *
        go_wp2_with (go_at_call 188; refine (H2.out _).mono ?_; rintro e2 w2 ⟨rfl, hb2⟩; have B2 := Lib.hid (HX.out.trans (hb2.mono HX.out.size)); have R2 := Lib.hid (RX.out.below hb2); clear hb2)
        go_roundw
        case rel => exact ⟨j + 1, by have := HJ.out; omega, by go_num, R2.out, B2.out⟩
        case measure => simp [RowKit.intOf]; omega
      · obtain ⟨a, rfl, _, _, hcc, _, _, _⟩ := HR2.out.at j (by omega)
        rw [show (rowP 136).getD j p0 = ⟨37, 0, 0, r3⟩ by rw [hjj]; exact p88_at.2.2] at hcc
        obtain ⟨k0, k1, k2, k3⟩ := hcc
        dsimp only at k0 k1 k2 k3
        have HJ := Lib.hid hjj
        clear hjj
        have HX := Lib.hid (Below.alloc (HB2.out) HB2.out.size (.cells #[.int .i64 37, .int .i32 0, .int .i64 0, .string r3] 139))
        have h3 : 3 ≤ r3.size := by decide
        generalize r3 = R3' at *
        go_wp2_with (go_at_call 188; refine (H3.out _).mono ?_; rintro e2 w2 ⟨rfl, hb2⟩; have B2 := Lib.hid (HX.out.trans (hb2.mono HX.out.size)); obtain ⟨q0, q1, q2, q3, q4⟩ := cells4 hb2; clear hb2)
        have hx1 := q3
        have HQ0 := Lib.hid q0; have HQ3 := Lib.hid q3
        have e38 : IntKind.i64.wrap 38 = 38 := rfl
        have lt2 : wr.heap.size < w2.heap.size := World.block_lt_of_cell? w2 _ q0
        go_region_held3 (fun w' => w'.cell? ⟨wr.heap.size, 0, none⟩ = some (.int .i64 37) ∧ w'.cell? ⟨wr.heap.size, 3, none⟩ = some (.string R3')) (go_keep) (first
          | (go_at_call 190; refine (HN.out _ (HT.out.below B2.out.drew)).mono ?_; rintro e3 w3 ⟨rfl, hb3⟩; have B3 := Lib.hid (B2.out.drew.trans (hb3.mono B2.out.size)); have r0 := (hb3.cell (p := ⟨wr.heap.size, 0, none⟩) lt2).trans HQ0.out; have r3 := (hb3.cell (p := ⟨wr.heap.size, 3, none⟩) lt2).trans HQ3.out; clear hb3)
          | (go_at_call 189; refine (HC.out _).mono ?_; rintro e4 w4 ⟨rfl, rfl⟩))
        all_goals
          go_wp2_with fail
          go_ret2
          exact ⟨rfl, B3.out⟩
/-- What the landed big5 stands on. -/
def Tb8 (w : World) : Prop := pt.Tabs w ∧ DD w
theorem Tb8.stay {w w' : World} (h : Tb8 w) (hb : Below w.heap.size w w') : Tb8 w' := ⟨h.1.below hb, h.2.stay hb⟩
set_option maxRecDepth 1000000 in
set_option maxHeartbeats 4000000 in
theorem bytes_ex (w : World) (hK : Tb8 w) : Calls Tryz.prog 101 #[.slice (some ⟨w.heap.size, 0, none⟩) 2 2] (w.alloc (.cells #[.int .i32 202, .int .i32 65] 21)) fun e w' => e = .returned (.tuple #[.string ⟨#[136, 102]⟩, .int .i64 1]) ∧ Below w.heap.size w w' := by
  have hb0 : Below w.heap.size w (w.alloc (.cells #[.int .i32 202, .int .i32 65] 21)) := (Below.refl _ _).alloc (Nat.le_refl _) _
  have HK := Lib.hid (hK.stay hb0)
  have HT := Lib.hid (fun W h => codeTwo_ex W h)
  have HS := Lib.hid (fun W h => codeSg_ex W h)
  have HB := Lib.hid (fun W => bytesOf_ex W)
  have Q := Lib.hid (q2_new w (.int .i32 202) (.int .i32 65) 21)
  have hlt : w.heap.size < (w.alloc (.cells #[.int .i32 202, .int .i32 65] 21)).heap.size := by simp
  have B0 := Lib.hid hb0
  generalize w.alloc (.cells #[.int .i32 202, .int .i32 65] 21) = W0 at *
  obtain ⟨_, q0, q1, _⟩ := Q.out
  clear hK hb0
  go_enter Tryz.func101, Tryz.ntmps101
  go_wp2_with fail
  go_region_held3 (fun w' => w'.cell? ⟨w.heap.size, 0, none⟩ = some (.int .i32 202) ∧ w'.cell? ⟨w.heap.size, 1, none⟩ = some (.int .i32 65)) (go_keep) (first
    | (go_at_call 143; refine (HT.out _ (HK.out.stay (Below.refl _ _).drew).2).mono ?_; rintro e1 w1 ⟨rfl, hb1⟩; have B1 := Lib.hid (B0.out.drew.trans (hb1.mono B0.out.size)); have K1 := Lib.hid ((HK.out.stay (Below.refl _ _).drew).stay hb1); have r0 := (hb1.cell (p := ⟨w.heap.size, 0, none⟩) hlt).trans q0; have r1 := (hb1.cell (p := ⟨w.heap.size, 1, none⟩) hlt).trans q1; clear hb1))
  all_goals
    go_wp2_with (first
      | (go_at_call 145; refine (HS.out _ K1.out.1).mono ?_; rintro e2 w2 ⟨rfl, hb2⟩; have B2 := Lib.hid (B1.out.trans (hb2.mono B1.out.size)); clear hb2)
      | (go_at_call 144; refine (HB.out _).mono ?_; rintro e3 w3 ⟨rfl, hb3⟩; have B3 := Lib.hid (B2.out.trans (hb3.mono B2.out.size)); clear hb3))
    go_ret2
    exact ⟨rfl, B3.out⟩
theorem awk8 : bg.Awk Tb8 where
  stay w w' h hb := h.stay hb
  aS w h := by
    have h2 := signsL_any 136 98 w h.2 (by omega) (by omega)
    rw [bg.signs_ex] at h2
    exact h2
  aB w h := bytes_ex w h
end Go.Proofs.YtiigknimfibdpaaGreatDoor.bp
