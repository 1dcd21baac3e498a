/-
  The law RunOvers of layer 4: of two tables, one over the other, each code and sign are those of the document; both stay as they were; three may be put over one another in whatever order of calls: the function returns true, and leaves its arguments alone. No condition.
-/
import Derived.Test.YtiokdeomdeenbaaDoorCards
import Derived.Test.YtiokdeomdeenbaaDoorTie
import Derived.Test.YtiokdeomdeenbaaDoorPt6
import Derived.Deep.DeepHandedRow
import Derived.Test.YtiokdeomdeenbaaDoorTsK
import Derived.Test.YtiokdeomdeenbaaDoorTb7
import Derived.WalkKit
import Derived.ProofKit
import Derived.OpenShut
import Derived.ShutString
import Derived.ChangeOld
import Derived.Below
namespace Go.Proofs.YtiokdeomdeenbaaDoor.runOvers
open Go.Proofs.YtiokdeomdeenbaaDoor.pt
open Go.ChangeShapes Go.WideShapes Go.ChangeAt Go.RowKit
open Go.ChangeMaps (open_string shut_string)
set_option linter.unusedVariables false

theorem own : ownKnob Tryd.prog.godebug = none := by kernel_rfl
theorem laidOut : laidOutB Tryd.prog = true := by kernel_rfl

theorem walk (p0 : Option Addr) (len0 cap0 : Nat) (z0 : List Go.Proofs.YtiokdeomdeenbaaDoor.tb.Pce) (p1 : Option Addr) (len1 cap1 : Nat) (z1 : List Go.Proofs.YtiokdeomdeenbaaDoor.tb.Pce) (p2 : Option Addr) (len2 cap2 : Nat) (z2 : List Go.Proofs.YtiokdeomdeenbaaDoor.tb.Pce) (a3 : Int) (a4 : Int) (w : World) (w0 : Go.Proofs.YtiokdeomdeenbaaDoor.tb.RowC w p0 len0 cap0 z0) (b0 : len0 ≤ 9223372036854775807) (w1 : Go.Proofs.YtiokdeomdeenbaaDoor.tb.RowC w p1 len1 cap1 z1) (b1 : len1 ≤ 9223372036854775807) (w2 : Go.Proofs.YtiokdeomdeenbaaDoor.tb.RowC w p2 len2 cap2 z2) (b2 : len2 ≤ 9223372036854775807) (w3 : (Lit.int .i64 a3).wf = true) (w4 : (Lit.int .i32 a4).wf = true) (hT : Tabs w) :
    Calls Tryd.prog 5 #[.slice p0 len0 cap0, .slice p1 len1 cap1, .slice p2 len2 cap2, .int .i64 a3, .int .i32 a4] w fun e w' => e = .returned (.bool true) ∧ Below w.heap.size w w' := by
  exact (by simp [Lit.wf, IntKind.min, IntKind.max, IntKind.bits, IntKind.signed] at w3 w4; exact tb.overs_walk p0 p1 p2 len0 cap0 len1 cap1 len2 cap2 z0 z1 z2 a3 a4 w w0 w1 w2 b0 b1 b2 hT w3.1 w3.2 w4.1 w4.2)
theorem reads (os : Os) {H : Type} (enc : TypeId × Value → H) : ∃ places, DataW.whole enc Tryd.prog ((laidWorld os).forCall (fun _ _ => 0) ⟨#[], #[.slice none 0 0, .slice none 0 0, .slice none 0 0, .int .i64 0, .int .i32 0], []⟩).memory Tryd.f5.params.toList Rows.runOversSpec.vars false (#[.slice none 0 0, .slice none 0 0, .slice none 0 0, .int .i64 0, .int .i32 0] : Array Value).toList 8 = some ([.nil, .nil, .nil, .lit (.int .i64 0), .lit (.int .i32 0)], [], places) :=
  ⟨[], by kernel_rfl⟩
theorem met (os : Os) : laidMet Tryd.prog Rows.runOversRow.laid ((laidWorld os).forCall (fun _ _ => 0) ⟨#[], #[.slice none 0 0, .slice none 0 0, .slice none 0 0, .int .i64 0, .int .i32 0], []⟩).memory :=
  laidMet_of_run' 8 (by kernel_rfl) (by kernel_rfl)
set_option maxRecDepth 100000 in
theorem lifted (os : Os) (started : os.Started) (H : Type) (enc : TypeId × Value → H) (F : Stop.Interp) :
    ReturnsInHanded {} Tryd.checked os 5 .any ((OpenSpec.ofChange Rows.runOversSpec).preRow enc Tryd.prog Tryd.f5 Rows.runOversRow.domain false Rows.runOversRow.laid) (((OpenSpec.ofChange Rows.runOversSpec).at F).post enc Tryd.prog Tryd.f5 false true false false) := by
  obtain ⟨places, hx⟩ := reads os enc
  refine returnsInHanded_of_row (C := Tryd.checked) (s := OpenSpec.ofChange Rows.runOversSpec) own started (by kernel_rfl) Tryd.func5
    (witness_row_at (enc := enc) (C := Tryd.checked) false (laidWorld os) #[.slice none 0 0, .slice none 0 0, .slice none 0 0, .int .i64 0, .int .i32 0] rfl (by kernel_rfl) (by kernel_rfl) (by kernel_rfl)
      (OpenSpec.preRow_of_cond 8 hx (by kernel_rfl) (fun k hk => by cases hk) (by kernel_rfl) (met os))) ?_
  intro W base args ds gs before hval0 hW _ _ _ hL _ _
  have hT : Tabs W := tabs_of hL
  have hval : ∀ (j : Nat) t v, Tryd.f5.params[j]? = some t → args[j]? = some v → Value.okWide Tryd.prog W .any base t v := hval0
  have hW' := hW
  obtain ⟨p, q, hA0, hV, rfl, hfz, hnd⟩ := hW
  have hA : DataW.TrodAll enc Tryd.prog W 0 (fun _ => true) true Tryd.f5.params.toList args.toList ds p := hA0
  rw [Tryd.params5] at hA hval
  obtain ⟨v0, vs0, d0, ds0, p0, q0, hargs, rfl, rfl, h0, r0⟩ := trodAll_cons hA
  obtain ⟨v1, vs1, d1, ds1, p1, q1, rfl, rfl, rfl, h1, r1⟩ := trodAll_cons r0
  obtain ⟨v2, vs2, d2, ds2, p2, q2, rfl, rfl, rfl, h2, r2⟩ := trodAll_cons r1
  obtain ⟨v3, vs3, d3, ds3, p3, q3, rfl, rfl, rfl, h3, r3⟩ := trodAll_cons r2
  obtain ⟨v4, vs4, d4, ds4, p4, q4, rfl, rfl, rfl, h4, r4⟩ := trodAll_cons r3
  obtain ⟨rfl, rfl, rfl⟩ := trodAll_nil r4
  obtain rfl : args = #[v0, v1, v2, v3, v4] := by cases args; simp_all
  obtain ⟨rfl, rfl⟩ := trodVars_none hV
  obtain ⟨x0, len0, cap0, rfl⟩ := okWide_slice Tryd.underlying22 (hval 0 22 v0 rfl rfl)
  have k0 := h0
  have lt0 : ∀ x ∈ p0, x.block < W.heap.size := by obtain ⟨m, hm⟩ := k0; exact DataW.trod_lt m _ _ _ hm
  obtain ⟨z0, w0, b0⟩ : ∃ zs, Go.Proofs.YtiokdeomdeenbaaDoor.tb.RowC W x0 len0 cap0 zs ∧ len0 ≤ 9223372036854775807 := by
    obtain ⟨fuel, hf⟩ := h0
    obtain ⟨A, n, c, l, hcs, hr, hn⟩ := Go.Proofs.YtiokdeomdeenbaaDoor.tb.open_pieces hf
    simp [Value.cells] at hcs
    obtain ⟨rfl, rfl, rfl⟩ := hcs
    exact ⟨l, hr, hn⟩
  obtain ⟨x1, len1, cap1, rfl⟩ := okWide_slice Tryd.underlying22 (hval 1 22 v1 rfl rfl)
  have k1 := h1
  have lt1 : ∀ x ∈ p1, x.block < W.heap.size := by obtain ⟨m, hm⟩ := k1; exact DataW.trod_lt m _ _ _ hm
  obtain ⟨z1, w1, b1⟩ : ∃ zs, Go.Proofs.YtiokdeomdeenbaaDoor.tb.RowC W x1 len1 cap1 zs ∧ len1 ≤ 9223372036854775807 := by
    obtain ⟨fuel, hf⟩ := h1
    obtain ⟨A, n, c, l, hcs, hr, hn⟩ := Go.Proofs.YtiokdeomdeenbaaDoor.tb.open_pieces hf
    simp [Value.cells] at hcs
    obtain ⟨rfl, rfl, rfl⟩ := hcs
    exact ⟨l, hr, hn⟩
  obtain ⟨x2, len2, cap2, rfl⟩ := okWide_slice Tryd.underlying22 (hval 2 22 v2 rfl rfl)
  have k2 := h2
  have lt2 : ∀ x ∈ p2, x.block < W.heap.size := by obtain ⟨m, hm⟩ := k2; exact DataW.trod_lt m _ _ _ hm
  obtain ⟨z2, w2, b2⟩ : ∃ zs, Go.Proofs.YtiokdeomdeenbaaDoor.tb.RowC W x2 len2 cap2 zs ∧ len2 ≤ 9223372036854775807 := by
    obtain ⟨fuel, hf⟩ := h2
    obtain ⟨A, n, c, l, hcs, hr, hn⟩ := Go.Proofs.YtiokdeomdeenbaaDoor.tb.open_pieces hf
    simp [Value.cells] at hcs
    obtain ⟨rfl, rfl, rfl⟩ := hcs
    exact ⟨l, hr, hn⟩
  obtain ⟨a3, rfl, rfl, rfl, w3⟩ := open_int Tryd.underlying3 (hval 3 3 v3 rfl rfl) h3
  obtain ⟨a4, rfl, rfl, rfl, w4⟩ := open_int Tryd.underlying21 (hval 4 21 v4 rfl rfl) h4
  clear hA0 hval0
  refine (walk x0 len0 cap0 z0 x1 len1 cap1 z1 x2 len2 cap2 z2 a3 a4 W w0 b0 w1 b1 w2 b2 w3 w4 hT).mono fun e W' ⟨he, bel⟩ => ?_
  subst he
  exact ⟨_, rfl, _, _, _, [], _, [], hW', trodAll_mk1 (shut_bool Tryd.underlying4 _), (trodAll_cons_mk (Below.trod laidOut (by kernel_rfl) (of_decide_eq_true (by kernel_rfl)) k0 bel lt0) (trodAll_cons_mk (Below.trod laidOut (by kernel_rfl) (of_decide_eq_true (by kernel_rfl)) k1 bel lt1) (trodAll_cons_mk (Below.trod laidOut (by kernel_rfl) (of_decide_eq_true (by kernel_rfl)) k2 bel lt2) (trodAll_cons_mk (shut_int Tryd.underlying3 w3) (trodAll_cons_mk (shut_int Tryd.underlying21 w4) trodAll_mk0))))), rfl, bel.frame _, fun h => by cases h⟩

theorem said : Rows.RunOversSaid :=
  OpenClaim.holds_of_cond 5 Tryd.f5 rfl rfl rfl rfl rfl rfl rfl ⟨rfl, rfl, rfl, rfl, rfl⟩ rfl rfl rfl rfl rfl (by kernel_rfl) Tryd.func5 (by kernel_rfl)
    (of_decide_eq_true (by kernel_rfl)) (by unfold Func.isWrapper; first | (rw [if_pos (by decide +kernel)]; kernel_rfl) | (rw [if_neg (by decide +kernel)]; exact ⟨rfl, rfl⟩))
    (fun os started H enc _ F => by rw [OpenClaim.pre_eq_preRow]; exact lifted os started H enc F)
/-- No parameter wants a stand-in. -/
theorem plain (f : FuncId) (fn : Func) (hf : Tryd.pinned.checked.prog.funcNamed "diacritic/diacriticlaw04.RunOvers" = some f) (hfn : Tryd.pinned.checked.prog.funcs[f]? = some fn) :
    false = Tryd.pinned.checked.prog.looks [] ∧ ∀ (j : Nat) t, fn.params[j]? = some t → Tryd.pinned.checked.prog.wantsStandIn t = false := by
  obtain rfl : f = 5 := Option.some.inj ((show Tryd.prog.funcNamed "diacritic/diacriticlaw04.RunOvers" = some 5 by kernel_rfl).symm.trans hf) |>.symm
  obtain rfl : fn = Tryd.f5 := (Option.some.inj (Tryd.func5.symm.trans hfn)).symm
  refine ⟨by kernel_rfl, fun j t ht => ?_⟩
  rw [Tryd.params5] at ht
  have ht' := Array.mem_of_getElem? ht
  simp at ht'
  rcases ht' with rfl | rfl | rfl
  · exact (show Tryd.prog.wantsStandIn 22 = false by kernel_rfl)
  · exact (show Tryd.prog.wantsStandIn 3 = false by kernel_rfl)
  · exact (show Tryd.prog.wantsStandIn 21 = false by kernel_rfl)
/-- ████ THE STATEMENT ████ -/
theorem proved : Rows.RunOversCardSaid :=
  Claim7.holds_tied_plain_at .later [] _ _ _ _ said (fun _ h => by cases h) (by kernel_rfl) (fun _ h => by cases h) runOvers_row_tie rfl ⟨rfl, rfl⟩ (by kernel_rfl) rfl plain (by kernel_rfl)
#print axioms proved
end Go.Proofs.YtiokdeomdeenbaaDoor.runOvers

