/- Layer 12: the document's example. -/
import Derived.Test.YtidlkkhmmgkicaaTa6
namespace Go.Proofs.Ytidlkkhmmgkicaa.ta
open Go.RowKit Go.Lib
open Go.Proofs.Ytidlkkhmmgkicaa.un (bs bs_list bs_size bs_app bs_back size_list bt wrap64 data_app index_bt Kb Kb.below)
set_option linter.unusedVariables false
/-- The example's bytes. -/
def exP : ByteArray := bs (prA 5 17 [⟨#[97]⟩, ⟨#[]⟩, ⟨#[]⟩, ⟨#[]⟩, ⟨#[]⟩])
/-- Two cells of a block. -/
structure T2 (w : World) (p : Nat) (v0 v1 : Value) : Prop where
  lt : p < w.heap.size
  c0 : w.cell? ⟨p, 0, none⟩ = some v0
  c1 : w.cell? ⟨p, 1, none⟩ = some v1
theorem T2.below {w w' : World} {p : Nat} {v0 v1 : Value} (h : T2 w p v0 v1) (hb : Below w.heap.size w w') : T2 w' p v0 v1 :=
  ⟨Nat.lt_of_lt_of_le h.lt hb.size, (hb.cell (p := ⟨p, 0, none⟩) h.lt).trans h.c0, (hb.cell (p := ⟨p, 1, none⟩) h.lt).trans h.c1⟩
theorem t2_new (w : World) (t : TypeId) (v0 v1 : Value) : T2 (w.alloc (.cells #[v0, v1] t)) w.heap.size v0 v1 := by
  refine ⟨by rw [alloc_size]; omega, ?_, ?_⟩ <;> (rw [World.cell?_alloc_mark]; rfl)
set_option maxRecDepth 100000 in
set_option maxHeartbeats 8000000 in
theorem Awake_any {K : World → Prop} (L : Tl K) (w : World) (hK : K w) : Calls Try.prog 29 #[] w fun e w' => e = .returned (.bool true) ∧ Below w.heap.size w w' := by
  have hc : chk 5 0 [⟨#[97]⟩, ⟨#[]⟩, ⟨#[]⟩, ⟨#[]⟩, ⟨#[]⟩] = (0, 0) := by decide +kernel
  have H : Ok 5 ⟨#[97]⟩ ⟨#[]⟩ ⟨#[]⟩ ⟨#[]⟩ ⟨#[]⟩ := ok_of _ _ _ _ _ _ (by rw [hc])
  have HPR := Lib.hid (fun W h => L.print ⟨#[97]⟩ ⟨#[]⟩ ⟨#[]⟩ ⟨#[]⟩ ⟨#[]⟩ 5 17 W h (by omega) (by omega) (by decide) (by decide) (by decide) (by decide) (by decide))
  have hp : prS 5 17 [⟨#[97]⟩, ⟨#[]⟩, ⟨#[]⟩, ⟨#[]⟩, ⟨#[]⟩] = exP := by unfold prS; rw [hc]; rfl
  rw [hp, hc] at HPR
  have hz : exP.size = 128 := pr_size H
  have hv : paV exP = tlV ⟨#[97]⟩ ⟨#[]⟩ ⟨#[]⟩ ⟨#[]⟩ ⟨#[]⟩ 5 17 := pr_pa H (by omega) (by omega)
  have hT : isT exP = true := pr_isT H
  have HPS := Lib.hid (fun W h => L.parse exP W h (by omega))
  rw [hv, hT] at HPS
  have HF := Lib.hid L.first
  have HL := Lib.hid L.stay
  have x1 : ∀ wx, (Instr.index 9 (.string exP) (.int .i64 126)).run Try.prog wx = .ok (.int .u8 5) wx := fun wx => by
    have h := index_bt exP 126 (by omega) wx
    rw [show bt exP 126 = 5 by decide +kernel] at h
    exact h
  have x2 : ∀ wx, (Instr.slice 9 (.string exP) none (some (.int .i64 4)) none).run Try.prog wx = .ok (.string ⟨#[84, 65, 71, 97]⟩) wx := fun wx => by
    have h := slice_to exP 4 (by omega) wx
    rw [show bs (exP.data.toList.take 4) = ⟨#[84, 65, 71, 97]⟩ by decide +kernel] at h
    exact h
  have HBD : Hid (∀ W, Calls Try.prog 26 #[.agg #[.int .i64 0, .int .i64 0]] W fun e w' => e = .returned (.bool false) ∧ Below W.heap.size W w') := Lib.hid (fun W => bad_any W 0 0)
  unfold tlV ftV at HPR
  unfold tlV at HPS
  generalize exP = P at *
  have B0 : Below w.heap.size w (w.alloc (.cells #[.string ⟨#[97]⟩, .string ⟨#[]⟩, .string ⟨#[]⟩, .string ⟨#[]⟩, .string ⟨#[]⟩, .int .u8 5, .int .u8 17] 31)) := (Below.refl _ _).alloc (Nat.le_refl _) _
  have K0 : Hid (Kb K w (w.alloc (.cells #[.string ⟨#[97]⟩, .string ⟨#[]⟩, .string ⟨#[]⟩, .string ⟨#[]⟩, .string ⟨#[]⟩, .int .u8 5, .int .u8 17] 31))) := Lib.hid ⟨L.stay _ _ hK B0, B0⟩
  have P0 : Hid (T7 (w.alloc (.cells #[.string ⟨#[97]⟩, .string ⟨#[]⟩, .string ⟨#[]⟩, .string ⟨#[]⟩, .string ⟨#[]⟩, .int .u8 5, .int .u8 17] 31)) w.heap.size (.string ⟨#[97]⟩) (.string ⟨#[]⟩) (.string ⟨#[]⟩) (.string ⟨#[]⟩) (.string ⟨#[]⟩) (.int .u8 5) (.int .u8 17)) := Lib.hid (t7_new _ _ _ _ _ _ _ _ _)
  have e128 : (P.size : Int) = 128 := by omega
  clear L hK H hc hp hv hT B0 hz
  go_enter Try.func29, Try.ntmps29
  go_wp2_with (first
    | (go_at_call 26; refine (HBD.out _).mono ?_; rintro e6 w6 ⟨rfl, hb6⟩; have K6 := Lib.hid (K5.out.below HL.out hb6); have P6 := (P5.out.below hb6); have Q6 := (Q5.out.below hb6); clear hb6; clear p0 p1 p2 p3 p4 p5 p6 q0 q1 q2 q3 q4 q5 q6 f0 f1; obtain ⟨_, p0, p1, p2, p3, p4, p5, p6⟩ := P6; obtain ⟨_, q0, q1, q2, q3, q4, q5, q6⟩ := Q6)
    | (go_at_call 46; refine (HF.out _ K4.out.k).mono ?_; rintro e5 w5 ⟨rfl, hb5⟩; have K5 := Lib.hid (K4.out.below HL.out hb5); have P5 := Lib.hid (P4.out.below hb5); have Q5 := Lib.hid (Q4.out.below hb5); have F5 := (F4.out.below hb5); clear hb5; have PP := P5.out; have QQ := Q5.out; obtain ⟨_, p0, p1, p2, p3, p4, p5, p6⟩ := PP; obtain ⟨_, q0, q1, q2, q3, q4, q5, q6⟩ := QQ; obtain ⟨_, f0, f1⟩ := F5)
    | (go_at_call 18; refine (HPS.out _ K2.out.k).mono ?_; rintro e3 w3 ⟨rfl, hb3⟩; have K3 := Lib.hid (K2.out.below HL.out hb3); have P3 := Lib.hid (P2.out.below hb3); have F3 := Lib.hid (F2.out.below hb3); clear hb3; have hb4 : Below w3.heap.size w3 (w3.alloc (.cells #[.string ⟨#[97]⟩, .string ⟨#[]⟩, .string ⟨#[]⟩, .string ⟨#[]⟩, .string ⟨#[]⟩, .int .u8 5, .int .u8 17] 31)) := (Below.refl _ _).alloc (Nat.le_refl _) _; have K4 := Lib.hid (K3.out.below HL.out hb4); have P4 := Lib.hid (P3.out.below hb4); have F4 := Lib.hid (F3.out.below hb4); have Q4 : Hid (T7 (w3.alloc (.cells #[.string ⟨#[97]⟩, .string ⟨#[]⟩, .string ⟨#[]⟩, .string ⟨#[]⟩, .string ⟨#[]⟩, .int .u8 5, .int .u8 17] 31)) w3.heap.size (.string ⟨#[97]⟩) (.string ⟨#[]⟩) (.string ⟨#[]⟩) (.string ⟨#[]⟩) (.string ⟨#[]⟩) (.int .u8 5) (.int .u8 17)) := Lib.hid (t7_new _ _ _ _ _ _ _ _ _); clear hb4)
    | (go_at_call 22; refine (HPR.out _ K0.out.k).mono ?_; rintro e1 w1 ⟨rfl, hb1⟩; have K1 := Lib.hid (K0.out.below HL.out hb1); have P1 := Lib.hid (P0.out.below hb1); clear hb1; have hb2 : Below w1.heap.size w1 (w1.alloc (.cells #[.int .i64 0, .int .i64 0] 43)) := (Below.refl _ _).alloc (Nat.le_refl _) _; have K2 := Lib.hid (K1.out.below HL.out hb2); have P2 := Lib.hid (P1.out.below hb2); have F2 := Lib.hid (t2_new w1 43 (.int .i64 0) (.int .i64 0)); clear hb2))
  go_ret
  exact ⟨by simp, K6.out.b⟩
theorem awake_any {K : World → Prop} (L : Tl K) (w : World) (hK : K w) : Calls Try.prog 17 #[] w fun e w' => e = .returned (.bool true) ∧ Below w.heap.size w w' := by
  have HA := Lib.hid (Awake_any L w hK)
  clear L hK
  go_enter Try.func17, Try.ntmps17
  go_wp2_with (go_at_call 29; refine (HA.out).mono ?_; rintro e2 w2 ⟨rfl, hb2⟩)
  go_ret
  exact ⟨rfl, hb2⟩
end Go.Proofs.Ytidlkkhmmgkicaa.ta
