/- The document's own answer of layer 7: RowCode: a contract. -/
import Derived.Test.YtgjndekgnkjknaaDoorWa3
namespace Go.Proofs.YtgjndekgnkjknaaDoor.wa
open Go.RowKit Go.Lib
set_option linter.unusedVariables false
theorem rcF_hit {p f j : Nat} (h : rowJ j = p) : rcF p (f + 1) j = some j := by conv => lhs; unfold rcF; rw [if_pos h]
theorem rcF_miss {p f j : Nat} (h : ¬ rowJ j = p) : rcF p (f + 1) j = rcF p f (j + 1) := by conv => lhs; unfold rcF; rw [if_neg h]
/-- The code of a sign in the rows; -1: it is in none. -/
def rcV : Option Nat → Int
  | some j => (cdJ j : Nat)
  | none => -1
def rcI (p : Nat) : Int := rcV (rc p)
set_option maxRecDepth 100000 in
set_option maxHeartbeats 4000000 in
theorem rowcode_any (p : Nat) (w : World) : Calls Tryd.prog 17 #[.int .i32 p] w fun e w' => e = .returned (.int .i64 (rcI p)) ∧ Below w.heap.size w w' := by
  obtain ⟨R, hR⟩ : ∃ R, R = rc p := ⟨_, rfl⟩
  have HR : Hid (rcF p 1128 0 = R) := Lib.hid hR.symm
  have FIN : Hid (∀ (v : Int) (w' : World), rcV R = v → Below w.heap.size w w' → (Ending.returned (.int .i64 v) = .returned (.int .i64 (rcI p)) ∧ Below w.heap.size w w')) := Lib.hid (fun v w' h hb => ⟨by rw [← h, hR]; rfl, hb⟩)
  clear hR
  generalize hP : (p : Int) = P at *
  have HP := Lib.hid hP
  clear hP
  generalize rcI p = T at *
  go_enter Tryd.func17, Tryd.ntmps17
  go_wp2_with fail
  go_loopw [3] (fun t wr => ∃ (l : Nat) (L : Int), Hid (L = 161 + (l : Int) ∧ l ≤ 12 ∧ rcF p (1128 - l * 94) (l * 94) = R) ∧ t = .int .i64 L ∧ Below w.heap.size w wr) (fun t _ => 173 - (RowKit.intOf t).toNat)
  case atStart => exact ⟨0, 161, Lib.hid ⟨rfl, by omega, HR.out⟩, rfl, Below.refl _ _⟩
  case round =>
    obtain ⟨l, L, hl, rfl, hB⟩ := hrel
    have HB := Lib.hid hB
    clear hB
    have l0 : 161 ≤ L := by have := hl.out; omega
    by_cases hlt : L ≤ 172
    · have hll : l < 12 := by have := hl.out; omega
      have HLL := Lib.hid hll
      clear hll
      go_wp2_with fail
      go_loopw [4] (fun t wr2 => ∃ (b : Nat) (B : Int), Hid (B = 161 + (b : Int) ∧ b ≤ 94 ∧ rcF p (1128 - (l * 94 + b)) (l * 94 + b) = R) ∧ t = .int .i64 B ∧ Below w.heap.size w wr2) (fun t _ => 255 - (RowKit.intOf t).toNat)
      case atStart => exact ⟨0, 161, Lib.hid ⟨rfl, by omega, hl.out.2.2⟩, rfl, HB.out⟩
      case round =>
        obtain ⟨b, B, hb, rfl, hB2⟩ := hrel
        have HB2 := Lib.hid hB2
        clear hB2
        have b0 : 161 ≤ B := by have := hb.out; omega
        by_cases hlb : B ≤ 254
        · have HRW : Hid (∀ w2, Calls Tryd.prog 33 #[.int .i64 L, .int .i64 B] w2 fun e w' => e = .returned (.int .i32 ((rowJ (l * 94 + b) : Nat) : Int)) ∧ Below w2.heap.size w2 w') := Lib.hid (fun w2 => by
            have h1 := hl.out; have h2 := hb.out; have h3 := HLL.out
            have := row_any (161 + l) (161 + b) w2 (by omega) (by omega)
            rw [(row_J (l := 161 + l) (b := 161 + b) (by omega) (by omega) (by omega) (by omega)).1, show (161 + l - 161) * 94 + (161 + b - 161) = l * 94 + b by omega, show ((161 + l : Nat) : Int) = L by omega, show ((161 + b : Nat) : Int) = B by omega] at this
            exact this)
          have HST : Hid (∃ f, 1128 - (l * 94 + b) = f + 1 ∧ f = 1128 - (l * 94 + (b + 1))) := Lib.hid ⟨1128 - (l * 94 + (b + 1)), by have := hb.out; have := HLL.out; omega, rfl⟩
          by_cases hp : rowJ (l * 94 + b) = p
          · have e1 : (((rowJ (l * 94 + b) : Nat) : Int) == P) = true := by rw [hp, HP.out]; exact beq_self_eq_true _
            have hres : Hid (rcV R = L * 256 + B) := Lib.hid (by
              obtain ⟨f, h1, h2⟩ := HST.out
              have h3 := hb.out
              rw [h1, rcF_hit hp] at h3
              rw [← h3.2.2]
              have h4 := hl.out
              show ((cdJ (l * 94 + b) : Nat) : Int) = _
              unfold cdJ
              omega)
            clear hp
            generalize ((rowJ (l * 94 + b) : Nat) : Int) = V at *
            go_wp2_with (go_at_call 33; refine (HRW.out _).mono ?_; rintro e2 w2 ⟨rfl, hb2⟩)
            go_ret
            exact FIN.out _ _ hres.out (HB2.out.trans (hb2.mono HB2.out.size))
          · have e1 : (((rowJ (l * 94 + b) : Nat) : Int) == P) = false := beq_eq_false_iff_ne.2 (by have := HP.out; omega)
            have hres : Hid (rcF p (1128 - (l * 94 + (b + 1))) (l * 94 + (b + 1)) = R) := Lib.hid (by
              obtain ⟨f, h1, h2⟩ := HST.out
              have h3 := hb.out.2.2
              rw [h1, rcF_miss hp, h2] at h3
              exact h3)
            clear hp
            generalize ((rowJ (l * 94 + b) : Nat) : Int) = V at *
            go_wp2_with (go_at_call 33; refine (HRW.out _).mono ?_; rintro e2 w2 ⟨rfl, hb2⟩)
            go_roundw
            case rel => exact ⟨b + 1, B + 1, Lib.hid ⟨by have := hb.out; omega, by have := hb.out; omega, hres.out⟩, rfl, HB2.out.trans (hb2.mono HB2.out.size)⟩
            case measure => simp [RowKit.intOf]; omega
        · have hres : Hid (rcF p (1128 - (l + 1) * 94) ((l + 1) * 94) = R) := Lib.hid (by
            have h1 := hb.out
            obtain rfl : b = 94 := by omega
            rw [show (l + 1) * 94 = l * 94 + 94 by omega]
            exact h1.2.2)
          go_wp2_with fail
          go_roundw
          case rel => exact ⟨l + 1, L + 1, Lib.hid ⟨by have := hl.out; omega, by have := HLL.out; omega, hres.out⟩, rfl, HB2.out⟩
          case measure => simp [RowKit.intOf]; omega
    · have hres : Hid (rcV R = -1) := Lib.hid (by
        have h1 := hl.out
        obtain rfl : l = 12 := by omega
        rw [← h1.2.2]; rfl)
      go_wp2_with fail
      go_ret
      exact FIN.out _ _ hres.out HB.out
end Go.Proofs.YtgjndekgnkjknaaDoor.wa
