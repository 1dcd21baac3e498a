/-
  The law OctetNil of layer 1: a reader that is none answers nothing, whatever number and text it is asked with: the function returns true, and leaves its arguments alone. No condition.
-/
import Derived.Test.YtkhcmgnempjjcaaRows
import Derived.Test.YtkhcmgnempjjcaaOct5
import Derived.WalkKit
import Derived.ProofKit
import Derived.OpenShut
import Derived.ShutString
namespace Go.Proofs.Ytkhcmgnempjjcaa.octetNil
open Go.ChangeShapes Go.WideShapes Go.ChangeAt Go.RowKit
open Go.ChangeMaps (open_string shut_string)
set_option linter.unusedVariables false      -- a walk need not use every 'w<i>' (that an integer argument fits its kind)

theorem own : ownKnob Try.prog.godebug = none := by kernel_rfl

theorem walk (a0 : Int) (a1 : ByteArray) (w0 : (Lit.int .i64 a0).wf = true) (w1 : a1.size ≤ maxLen) (w : World) :
    Calls Try.prog 7 #[.int .i64 a0, .string a1] w fun e w' => e = .returned (.bool true) ∧ Below w.heap.size w w' := by
  obtain ⟨b0, b1⟩ := bounds_i64 w0
  have g0 : Below w.heap.size w w := Below.refl _ _
  clear w0
  go_enter Try.func7, Try.ntmps7
  go_wp2_with (first | (go_at_call 31; refine (fail_nil _ _ _).mono ?_; rintro e1 w1 ⟨rfl, hb1⟩; have g1 := g0.trans (hb1.mono g0.size)) | (go_at_call 16; refine (awake_any _).mono ?_; rintro e2 w2 ⟨rfl, hb2⟩; have g2 := g1.trans (hb2.mono g1.size)) | (go_at_call 19; refine (left_nil _).mono ?_; rintro e3 w3 ⟨rfl, hb3⟩; have g3 := g2.trans (hb3.mono g2.size)) | (go_at_call 28; refine (at_nil _).mono ?_; rintro e4 w4 ⟨rfl, hb4⟩; have g4 := g3.trans (hb4.mono g3.size)) | (go_at_call 20; refine (fault_nil _).mono ?_; rintro e5 w5 ⟨rfl, hb5⟩; have g5 := g4.trans (hb5.mono g4.size)) | (go_at_call 32; refine (take_nil _ _).mono ?_; rintro e6 w6 ⟨rfl, hb6⟩; have g6 := g5.trans (hb6.mono g5.size)) | (go_at_call 33; refine (rest_nil _).mono ?_; rintro e7 w7 ⟨rfl, hb7⟩; have g7 := g6.trans (hb7.mono g6.size)) | (go_at_call 34; refine (peek_nil _ _).mono ?_; rintro e8 w8 ⟨rfl, hb8⟩; have g8 := g7.trans (hb8.mono g7.size)) | (go_at_call 17; refine (rbig_nil _ _ b0 b1).mono ?_; rintro e9 w9 ⟨rfl, hb9⟩; have g9 := g8.trans (hb9.mono g8.size)) | (go_at_call 18; refine (rsmall_nil _ _ b0 b1).mono ?_; rintro e10 w10 ⟨rfl, hb10⟩; have g10 := g9.trans (hb10.mono g9.size)) | (go_at_call 24; refine (rsafe_nil _).mono ?_; rintro e11 w11 ⟨rfl, hb11⟩; have g11 := g10.trans (hb11.mono g10.size)) | (go_at_call 30; refine (want_nil _ _).mono ?_; rintro e12 w12 ⟨rfl, hb12⟩; have g12 := g11.trans (hb12.mono g11.size)) | (go_at_call 35; refine (until_nil _ _).mono ?_; rintro e13 w13 ⟨rfl, hb13⟩; have g13 := g12.trans (hb13.mono g12.size)))
  go_ret
  exact ⟨rfl, g13⟩

/-! ### THE ROW's STEP: WRITTEN OUT: LEAVE IT -/
set_option maxRecDepth 100000 in
theorem lifted (os : Os) (started : os.Started) (H : Type) (enc : TypeId × Value → H) :
    ReturnsInHanded {} Try.checked os 7 .any (Rows.octetNilSpec.pre6 enc Try.prog Try.f7 Rows.octetNilRow.domain false) (Rows.octetNilSpec.post enc Try.prog Try.f7 false true false false) := by
  refine returnsInHanded_of_change (C := Try.checked) own started (by kernel_rfl) Try.func7
    (ChangeSpec.witness6 (enc := enc) (C := Try.checked) false ⟨#[], #[.int .i64 0, .string ByteArray.empty], []⟩ 8 (by kernel_rfl) (by kernel_rfl) (by kernel_rfl) (by kernel_rfl)) ?_
  intro W base args ds gs before hval0 hW hcnd _
  have hval : ∀ (j : Nat) t v, Try.f7.params[j]? = some t → args[j]? = some v → Value.okWide Try.prog W .any base t v := hval0
  have hW' := hW
  obtain ⟨p, q, hA0, hV, rfl, hfz, hnd⟩ := hW
  have hA : DataW.TrodAll enc Try.prog W 0 (fun _ => true) true Try.f7.params.toList args.toList ds p := hA0
  rw [Try.params7] at hA hval
  obtain ⟨v0, vs0, d0, ds0, p0, q0, hargs, rfl, rfl, h0, r0⟩ := trodAll_cons hA
  obtain ⟨v1, vs1, d1, ds1, p1, q1, rfl, rfl, rfl, h1, r1⟩ := trodAll_cons r0
  obtain ⟨rfl, rfl, rfl⟩ := trodAll_nil r1
  obtain rfl : args = #[v0, v1] := by cases args; simp_all
  obtain ⟨rfl, rfl⟩ := trodVars_none hV
  obtain ⟨a0, rfl, rfl, rfl, w0⟩ := open_int Try.underlying3 (hval 0 3 v0 rfl rfl) h0
  obtain ⟨a1, rfl, rfl, rfl, w1⟩ := open_string Try.underlying9 (hval 1 9 v1 rfl rfl) h1
  clear hA0 hval0
  simp only [List.append_nil] at hW'
  refine (walk a0 a1 w0 w1 W).mono fun e W' ⟨he, bel⟩ => ?_
  subst he
  exact ⟨_, rfl, _, _, _, [], _, [], hW', trodAll_mk1 (shut_bool Try.underlying4 _), (trodAll_cons_mk (shut_int Try.underlying3 w0) (trodAll_cons_mk (shut_string Try.underlying9 w1) trodAll_mk0)), rfl, bel.frame _, fun h => by cases h⟩

theorem over : Rows.octetNilRow.holds Try.pinned (OpenSpec.ofChange Rows.octetNilSpec) :=
  OpenClaim.holds_of_wide 7 Try.f7 rfl rfl rfl rfl rfl rfl rfl ⟨rfl, rfl, rfl, rfl, rfl⟩ rfl rfl rfl rfl rfl (by kernel_rfl) Try.func7 (by kernel_rfl)
    (of_decide_eq_true (by kernel_rfl)) (by unfold Func.isWrapper; first | (rw [if_pos (by decide +kernel)]; kernel_rfl) | (rw [if_neg (by decide +kernel)]; exact ⟨rfl, rfl⟩))
    (fun os started H enc _ => lifted os started H enc)

/-- ████ THE STATEMENT ████ -/
theorem proved : Rows.OctetNilSaid :=
  over
#print axioms proved
end Go.Proofs.Ytkhcmgnempjjcaa.octetNil
