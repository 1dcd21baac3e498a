/-
  The law FrameCuts of layer 13.
-/
import Derived.Test.YtkhajafjieofhaaRows
import Derived.Test.YtkhajafjieofhaaFlt
import Derived.Test.YtkhajafjieofhaaFnA
import Derived.Test.YtkhajafjieofhaaFlO
import Derived.WalkKit
import Derived.ProofKit
import Derived.OpenShut
import Derived.ShutString
import Derived.ChangeOld
import Derived.Below
namespace Go.Proofs.Ytkhajafjieofhaa.frameCuts
open Go.ChangeShapes Go.WideShapes Go.ChangeAt Go.RowKit
open Go.ChangeMaps (open_string shut_string)
set_option linter.unusedVariables false

theorem own : ownKnob Try.prog.godebug = none := by kernel_rfl
theorem laidOut : laidOutB Try.prog = true := by kernel_rfl

theorem walk (a0 : Int) (a1_0 : ByteArray) (a1_1 : Int) (a1_2 : Int) (a1_3 : Int) (a1_4 : ByteArray) (a1_5 : Int) (a2 : Int) (w : World) (w0 : (Lit.int .i64 a0).wf = true) (w1_0 : a1_0.size ≤ maxLen) (w1_1 : (Lit.int .u8 a1_1).wf = true) (w1_2 : (Lit.int .u8 a1_2).wf = true) (w1_3 : (Lit.int .u8 a1_3).wf = true) (w1_4 : a1_4.size ≤ maxLen) (w1_5 : (Lit.int .i64 a1_5).wf = true) (w2 : (Lit.int .u16 a2).wf = true) :
    Calls Try.prog 6 #[.int .i64 a0, .agg #[.string a1_0, .int .u8 a1_1, .int .u8 a1_2, .int .u8 a1_3, .string a1_4, .int .i64 a1_5], .int .u16 a2] w fun e w' => e = .returned (.bool true) ∧ Below w.heap.size w w' := by
  exact fn.cuts_walk fl.fm_land a0 a1_0 a1_1 a1_2 a1_3 a1_4 a1_5 a2 w trivial w1_0 w1_4 (fl.u8_in w1_1).1 (fl.u8_in w1_1).2 (fl.u8_in w1_2).1 (fl.u8_in w1_2).2 (fl.u8_in w1_3).1 (fl.u8_in w1_3).2 (fl.u16_in w2).1 (fl.u16_in w2).2
set_option maxRecDepth 100000 in
theorem lifted (os : Os) (started : os.Started) (H : Type) (enc : TypeId × Value → H) :
    ReturnsInHanded {} Try.checked os 6 .any (Rows.frameCutsSpec.pre6 enc Try.prog Try.f6 Rows.frameCutsRow.domain false) (Rows.frameCutsSpec.post enc Try.prog Try.f6 false true false false) := by
  refine returnsInHanded_of_change (C := Try.checked) own started (by kernel_rfl) Try.func6
    (ChangeSpec.witness6 (enc := enc) (C := Try.checked) false ⟨#[], #[.int .i64 0, .agg #[.string ByteArray.empty, .int .u8 0, .int .u8 0, .int .u8 0, .string ByteArray.empty, .int .i64 0], .int .u16 0], []⟩ 8 (by kernel_rfl) (by kernel_rfl) (by kernel_rfl) (by kernel_rfl)) ?_
  intro W base args ds gs before hval0 hW hcnd _
  have hval : ∀ (j : Nat) t v, Try.f6.params[j]? = some t → args[j]? = some v → Value.okWide Try.prog W .any base t v := hval0
  have hW' := hW
  obtain ⟨p, q, hA0, hV, rfl, hfz, hnd⟩ := hW
  have hA : DataW.TrodAll enc Try.prog W 0 (fun _ => true) true Try.f6.params.toList args.toList ds p := hA0
  rw [Try.params6] at hA hval
  obtain ⟨v0, vs0, d0, ds0, p0, q0, hargs, rfl, rfl, h0, r0⟩ := trodAll_cons hA
  obtain ⟨v1, vs1, d1, ds1, p1, q1, rfl, rfl, rfl, h1, r1⟩ := trodAll_cons r0
  obtain ⟨v2, vs2, d2, ds2, p2, q2, rfl, rfl, rfl, h2, r2⟩ := trodAll_cons r1
  obtain ⟨rfl, rfl, rfl⟩ := trodAll_nil r2
  obtain rfl : args = #[v0, v1, v2] := by cases args; simp_all
  obtain ⟨rfl, rfl⟩ := trodVars_none hV
  obtain ⟨a0, rfl, rfl, rfl, w0⟩ := open_int Try.underlying3 (hval 0 3 v0 rfl rfl) h0
  obtain ⟨c1, rfl, f1, s1⟩ := Go.Proofs.Ytkhajafjieofhaa.flt.open_flat 6 Try.underlying31 (show Go.Proofs.Ytkhajafjieofhaa.flt.kinds Try.prog 6 31 = some [.s, .i .u8, .i .u8, .i .u8, .s, .i .i64] by kernel_rfl) (hval 1 31 v1 rfl rfl) h1
  obtain ⟨xa1_0, ya1_0, ea1_0, ga1_0, f1_1⟩ := Go.Proofs.Ytkhajafjieofhaa.flt.fits_cons f1
  obtain ⟨a1_0, za1_0, w1_0⟩ := Go.Proofs.Ytkhajafjieofhaa.flt.fit_s ga1_0
  obtain ⟨xa1_1, ya1_1, ea1_1, ga1_1, f1_2⟩ := Go.Proofs.Ytkhajafjieofhaa.flt.fits_cons f1_1
  obtain ⟨a1_1, za1_1, w1_1⟩ := Go.Proofs.Ytkhajafjieofhaa.flt.fit_i ga1_1
  obtain ⟨xa1_2, ya1_2, ea1_2, ga1_2, f1_3⟩ := Go.Proofs.Ytkhajafjieofhaa.flt.fits_cons f1_2
  obtain ⟨a1_2, za1_2, w1_2⟩ := Go.Proofs.Ytkhajafjieofhaa.flt.fit_i ga1_2
  obtain ⟨xa1_3, ya1_3, ea1_3, ga1_3, f1_4⟩ := Go.Proofs.Ytkhajafjieofhaa.flt.fits_cons f1_3
  obtain ⟨a1_3, za1_3, w1_3⟩ := Go.Proofs.Ytkhajafjieofhaa.flt.fit_i ga1_3
  obtain ⟨xa1_4, ya1_4, ea1_4, ga1_4, f1_5⟩ := Go.Proofs.Ytkhajafjieofhaa.flt.fits_cons f1_4
  obtain ⟨a1_4, za1_4, w1_4⟩ := Go.Proofs.Ytkhajafjieofhaa.flt.fit_s ga1_4
  obtain ⟨xa1_5, ya1_5, ea1_5, ga1_5, f1_6⟩ := Go.Proofs.Ytkhajafjieofhaa.flt.fits_cons f1_5
  obtain ⟨a1_5, za1_5, w1_5⟩ := Go.Proofs.Ytkhajafjieofhaa.flt.fit_i ga1_5
  have t1 := Go.Proofs.Ytkhajafjieofhaa.flt.fits_nil f1_6
  subst za1_5
  subst za1_4
  subst za1_3
  subst za1_2
  subst za1_1
  subst za1_0
  subst t1
  subst ea1_5
  subst ea1_4
  subst ea1_3
  subst ea1_2
  subst ea1_1
  subst ea1_0
  obtain ⟨a2, rfl, rfl, rfl, w2⟩ := open_int Try.underlying51 (hval 2 51 v2 rfl rfl) h2
  clear hA0 hval0
  refine (walk a0 a1_0 a1_1 a1_2 a1_3 a1_4 a1_5 a2 W w0 w1_0 w1_1 w1_2 w1_3 w1_4 w1_5 w2).mono fun e W' ⟨he, bel⟩ => ?_
  subst he
  exact ⟨_, rfl, _, _, _, [], _, [], hW', trodAll_mk1 (shut_bool Try.underlying4 _), (trodAll_cons_mk (shut_int Try.underlying3 w0) (trodAll_cons_mk (s1 _ _ _ _) (trodAll_cons_mk (shut_int Try.underlying51 w2) trodAll_mk0))), rfl, bel.frame _, fun h => by cases h⟩

theorem over : Rows.frameCutsRow.holds Try.pinned (OpenSpec.ofChange Rows.frameCutsSpec) :=
  OpenClaim.holds_of_wide 6 Try.f6 rfl rfl rfl rfl rfl rfl rfl ⟨rfl, rfl, rfl, rfl, rfl⟩ rfl rfl rfl rfl rfl (by kernel_rfl) Try.func6 (by kernel_rfl)
    (of_decide_eq_true (by kernel_rfl)) (by unfold Func.isWrapper; first | (rw [if_pos (by decide +kernel)]; kernel_rfl) | (rw [if_neg (by decide +kernel)]; exact ⟨rfl, rfl⟩))
    (fun os started H enc _ => lifted os started H enc)

theorem proved : Rows.FrameCutsSaid := over
#print axioms proved
end Go.Proofs.Ytkhajafjieofhaa.frameCuts
