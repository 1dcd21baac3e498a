/-
  The law TailPrints of layer 12.
-/
import Derived.Test.YtidlkkhmmgkicaaRows
import Derived.Test.YtidlkkhmmgkicaaFlt
import Derived.Test.YtidlkkhmmgkicaaTa9
import Derived.Test.YtidlkkhmmgkicaaTl6
import Derived.WalkKit
import Derived.ProofKit
import Derived.OpenShut
import Derived.ShutString
import Derived.ChangeOld
import Derived.Below
namespace Go.Proofs.Ytidlkkhmmgkicaa.tailPrints
open Go.ChangeShapes Go.WideShapes Go.ChangeAt Go.RowKit
open Go.ChangeMaps (open_string shut_string)
set_option linter.unusedVariables false

theorem own : ownKnob Try.prog.godebug = none := by kernel_rfl
theorem laidOut : laidOutB Try.prog = true := by kernel_rfl

theorem walk (a0_0 : ByteArray) (a0_1 : ByteArray) (a0_2 : ByteArray) (a0_3 : ByteArray) (a0_4 : ByteArray) (a0_5 : Int) (a0_6 : Int) (w : World) (w0_0 : a0_0.size ≤ maxLen) (w0_1 : a0_1.size ≤ maxLen) (w0_2 : a0_2.size ≤ maxLen) (w0_3 : a0_3.size ≤ maxLen) (w0_4 : a0_4.size ≤ maxLen) (w0_5 : (Lit.int .u8 a0_5).wf = true) (w0_6 : (Lit.int .u8 a0_6).wf = true) :
    Calls Try.prog 7 #[.agg #[.string a0_0, .string a0_1, .string a0_2, .string a0_3, .string a0_4, .int .u8 a0_5, .int .u8 a0_6]] w fun e w' => e = .returned (.bool true) ∧ Below w.heap.size w w' := by
  obtain ⟨tr, ht, rfl⟩ := tl.u8_of w0_5
  obtain ⟨g, hg, rfl⟩ := tl.u8_of w0_6
  exact ta.prints_walk tl.tl_land a0_0 a0_1 a0_2 a0_3 a0_4 tr g w trivial ht hg w0_0 w0_1 w0_2 w0_3 w0_4
set_option maxRecDepth 100000 in
theorem lifted (os : Os) (started : os.Started) (H : Type) (enc : TypeId × Value → H) :
    ReturnsInHanded {} Try.checked os 7 .any (Rows.tailPrintsSpec.pre6 enc Try.prog Try.f7 Rows.tailPrintsRow.domain false) (Rows.tailPrintsSpec.post enc Try.prog Try.f7 false true false false) := by
  refine returnsInHanded_of_change (C := Try.checked) own started (by kernel_rfl) Try.func7
    (ChangeSpec.witness6 (enc := enc) (C := Try.checked) false ⟨#[], #[.agg #[.string ByteArray.empty, .string ByteArray.empty, .string ByteArray.empty, .string ByteArray.empty, .string ByteArray.empty, .int .u8 0, .int .u8 0]], []⟩ 8 (by kernel_rfl) (by kernel_rfl) (by kernel_rfl) (by kernel_rfl)) ?_
  intro W base args ds gs before hval0 hW hcnd _
  have hval : ∀ (j : Nat) t v, Try.f7.params[j]? = some t → args[j]? = some v → Value.okWide Try.prog W .any base t v := hval0
  have hW' := hW
  obtain ⟨p, q, hA0, hV, rfl, hfz, hnd⟩ := hW
  have hA : DataW.TrodAll enc Try.prog W 0 (fun _ => true) true Try.f7.params.toList args.toList ds p := hA0
  rw [Try.params7] at hA hval
  obtain ⟨v0, vs0, d0, ds0, p0, q0, hargs, rfl, rfl, h0, r0⟩ := trodAll_cons hA
  obtain ⟨rfl, rfl, rfl⟩ := trodAll_nil r0
  obtain rfl : args = #[v0] := by cases args; simp_all
  obtain ⟨rfl, rfl⟩ := trodVars_none hV
  obtain ⟨c0, rfl, f0, s0⟩ := Go.Proofs.Ytidlkkhmmgkicaa.flt.open_flat 6 Try.underlying31 (show Go.Proofs.Ytidlkkhmmgkicaa.flt.kinds Try.prog 6 31 = some [.s, .s, .s, .s, .s, .i .u8, .i .u8] by kernel_rfl) (hval 0 31 v0 rfl rfl) h0
  obtain ⟨xa0_0, ya0_0, ea0_0, ga0_0, f0_1⟩ := Go.Proofs.Ytidlkkhmmgkicaa.flt.fits_cons f0
  obtain ⟨a0_0, za0_0, w0_0⟩ := Go.Proofs.Ytidlkkhmmgkicaa.flt.fit_s ga0_0
  obtain ⟨xa0_1, ya0_1, ea0_1, ga0_1, f0_2⟩ := Go.Proofs.Ytidlkkhmmgkicaa.flt.fits_cons f0_1
  obtain ⟨a0_1, za0_1, w0_1⟩ := Go.Proofs.Ytidlkkhmmgkicaa.flt.fit_s ga0_1
  obtain ⟨xa0_2, ya0_2, ea0_2, ga0_2, f0_3⟩ := Go.Proofs.Ytidlkkhmmgkicaa.flt.fits_cons f0_2
  obtain ⟨a0_2, za0_2, w0_2⟩ := Go.Proofs.Ytidlkkhmmgkicaa.flt.fit_s ga0_2
  obtain ⟨xa0_3, ya0_3, ea0_3, ga0_3, f0_4⟩ := Go.Proofs.Ytidlkkhmmgkicaa.flt.fits_cons f0_3
  obtain ⟨a0_3, za0_3, w0_3⟩ := Go.Proofs.Ytidlkkhmmgkicaa.flt.fit_s ga0_3
  obtain ⟨xa0_4, ya0_4, ea0_4, ga0_4, f0_5⟩ := Go.Proofs.Ytidlkkhmmgkicaa.flt.fits_cons f0_4
  obtain ⟨a0_4, za0_4, w0_4⟩ := Go.Proofs.Ytidlkkhmmgkicaa.flt.fit_s ga0_4
  obtain ⟨xa0_5, ya0_5, ea0_5, ga0_5, f0_6⟩ := Go.Proofs.Ytidlkkhmmgkicaa.flt.fits_cons f0_5
  obtain ⟨a0_5, za0_5, w0_5⟩ := Go.Proofs.Ytidlkkhmmgkicaa.flt.fit_i ga0_5
  obtain ⟨xa0_6, ya0_6, ea0_6, ga0_6, f0_7⟩ := Go.Proofs.Ytidlkkhmmgkicaa.flt.fits_cons f0_6
  obtain ⟨a0_6, za0_6, w0_6⟩ := Go.Proofs.Ytidlkkhmmgkicaa.flt.fit_i ga0_6
  have t0 := Go.Proofs.Ytidlkkhmmgkicaa.flt.fits_nil f0_7
  subst za0_6
  subst za0_5
  subst za0_4
  subst za0_3
  subst za0_2
  subst za0_1
  subst za0_0
  subst t0
  subst ea0_6
  subst ea0_5
  subst ea0_4
  subst ea0_3
  subst ea0_2
  subst ea0_1
  subst ea0_0
  clear hA0 hval0
  refine (walk a0_0 a0_1 a0_2 a0_3 a0_4 a0_5 a0_6 W w0_0 w0_1 w0_2 w0_3 w0_4 w0_5 w0_6).mono fun e W' ⟨he, bel⟩ => ?_
  subst he
  exact ⟨_, rfl, _, _, _, [], _, [], hW', trodAll_mk1 (shut_bool Try.underlying4 _), (trodAll_cons_mk (s0 _ _ _ _) trodAll_mk0), rfl, bel.frame _, fun h => by cases h⟩

theorem over : Rows.tailPrintsRow.holds Try.pinned (OpenSpec.ofChange Rows.tailPrintsSpec) :=
  OpenClaim.holds_of_wide 7 Try.f7 rfl rfl rfl rfl rfl rfl rfl ⟨rfl, rfl, rfl, rfl, rfl⟩ rfl rfl rfl rfl rfl (by kernel_rfl) Try.func7 (by kernel_rfl)
    (of_decide_eq_true (by kernel_rfl)) (by unfold Func.isWrapper; first | (rw [if_pos (by decide +kernel)]; kernel_rfl) | (rw [if_neg (by decide +kernel)]; exact ⟨rfl, rfl⟩))
    (fun os started H enc _ => lifted os started H enc)

theorem proved : Rows.TailPrintsSaid := over
#print axioms proved
end Go.Proofs.Ytidlkkhmmgkicaa.tailPrints
