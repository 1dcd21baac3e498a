/- Layer 11: what the walks ask of the landed functions; the document's example; the walks of SyncPuts, SyncBack, SyncParts. -/
import Derived.Test.YtkhajafjieofhaaUn1
import Derived.WalkSmall
namespace Go.Proofs.Ytkhajafjieofhaa.un
open Go.RowKit Go.Lib
set_option linter.unusedVariables false
structure Un (K : World → Prop) : Prop where
  stay : ∀ w w', K w → Below w.heap.size w w' → K w'
  clean : ∀ (s : ByteArray) w, K w → s.size ≤ 4000 → Calls Try.prog 71 #[.string s] w fun e w' => e = .returned (.bool (extL s.data.toList == 0)) ∧ Below w.heap.size w w'
  put : ∀ (s : ByteArray) w, K w → s.size ≤ 4000 → Calls Try.prog 62 #[.string s] w fun e w' => e = .returned (.string (bs (putL s.data.toList))) ∧ Below w.heap.size w w'
  drop : ∀ (s : ByteArray) w, K w → s.size ≤ 4000 → Calls Try.prog 68 #[.string s] w fun e w' => e = .returned (.string (bs (drpL s.data.toList))) ∧ Below w.heap.size w w'
  extra : ∀ (s : ByteArray) w, K w → s.size ≤ 4000 → Calls Try.prog 38 #[.string s] w fun e w' => e = .returned (.int .i64 ((extL s.data.toList : Nat) : Int)) ∧ Below w.heap.size w w'
/-- The world so far. -/
structure Kb (K : World → Prop) (w W : World) : Prop where
  k : K W
  b : Below w.heap.size w W
theorem Kb.below {K : World → Prop} (L : ∀ w w', K w → Below w.heap.size w w' → K w') {w W W' : World} (h : Kb K w W) (hb : Below W.heap.size W W') : Kb K w W' := ⟨L _ _ h.k hb, h.b.trans (hb.mono h.b.size)⟩
set_option maxRecDepth 100000 in
set_option maxHeartbeats 2000000 in
theorem Awake_any {K : World → Prop} (L : Un K) (w : World) (hK : K w) : Calls Try.prog 57 #[] w fun e w' => e = .returned (.bool true) ∧ Below w.heap.size w w' := by
  have HP : Hid (∀ W, K W → Calls Try.prog 62 #[.string ⟨#[255, 224]⟩] W fun e w' => e = .returned (.string ⟨#[255, 0, 224]⟩) ∧ Below W.heap.size W w') := Lib.hid (fun W h => by
    have h2 := L.put ⟨#[255, 224]⟩ W h (by decide)
    rw [show bs (putL (⟨#[255, 224]⟩ : ByteArray).data.toList) = ⟨#[255, 0, 224]⟩ by decide +kernel] at h2
    exact h2)
  have HD : Hid (∀ W, K W → Calls Try.prog 68 #[.string ⟨#[255, 0, 0]⟩] W fun e w' => e = .returned (.string ⟨#[255, 0]⟩) ∧ Below W.heap.size W w') := Lib.hid (fun W h => by
    have h2 := L.drop ⟨#[255, 0, 0]⟩ W h (by decide)
    rw [show bs (drpL (⟨#[255, 0, 0]⟩ : ByteArray).data.toList) = ⟨#[255, 0]⟩ by decide +kernel] at h2
    exact h2)
  have HC : Hid (∀ W, K W → Calls Try.prog 71 #[.string ⟨#[255]⟩] W fun e w' => e = .returned (.bool false) ∧ Below W.heap.size W w') := Lib.hid (fun W h => L.clean ⟨#[255]⟩ W h (by decide))
  have HL := Lib.hid L.stay
  have K0 : Hid (Kb K w w) := Lib.hid ⟨hK, Below.refl _ _⟩
  clear L hK
  go_enter Try.func57, Try.ntmps57
  go_wp2_with (first
    | (go_at_call 71; refine (HC.out _ K2.out.k).mono ?_; rintro e3 w3 ⟨rfl, hb3⟩; have K3 := Lib.hid (K2.out.below HL.out hb3); clear hb3)
    | (go_at_call 68; refine (HD.out _ K1.out.k).mono ?_; rintro e2 w2 ⟨rfl, hb2⟩; have K2 := Lib.hid (K1.out.below HL.out hb2); clear hb2)
    | (go_at_call 62; refine (HP.out _ K0.out.k).mono ?_; rintro e1 w1 ⟨rfl, hb1⟩; have K1 := Lib.hid (K0.out.below HL.out hb1); clear hb1))
  go_ret
  exact ⟨rfl, K3.out.b⟩
end Go.Proofs.Ytkhajafjieofhaa.un
