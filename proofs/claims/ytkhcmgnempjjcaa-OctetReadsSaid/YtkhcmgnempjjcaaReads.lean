/-
  The law OctetReads of layer 1: whatever is read of any text, at any base, each answer, and the place and the fault behind it, are the document's: the function returns true whatever text, base and operations it is given, and leaves them alone. No condition.
-/
import Derived.Test.YtkhcmgnempjjcaaRows
import Derived.Test.YtkhcmgnempjjcaaReadsW
import Derived.Deep.Slices
import Derived.WalkKit
import Derived.ProofKit
import Derived.OpenShut
import Derived.ShutString
import Derived.ChangeOld
import Derived.Below
namespace Go.Proofs.Ytkhcmgnempjjcaa.octetReads
open Go.ChangeShapes Go.WideShapes Go.ChangeAt Go.RowKit
open Go.ChangeMaps (open_string shut_string)
set_option linter.unusedVariables false

theorem own : ownKnob Try.prog.godebug = none := by kernel_rfl
theorem laidOut : laidOutB Try.prog = true := by kernel_rfl

open Go.PlainAid
theorem reads_nil (t : ByteArray) (base : Int) (w : World) (b0 : -9223372036854775808 ≤ base) (b1 : base ≤ 9223372036854775807) (hts : t.size ≤ maxLen) :
    Calls Try.prog 5 #[.string t, .int .i64 base, .slice none 0 0] w fun e w' => e = .returned (.bool true) ∧ Below w.heap.size w w' := by
  unfold maxLen at hts
  by_cases hbig : 2000 < t.size
  · go_enter Try.func5, Try.ntmps5
    go_wp2_with (go_at_call 16; refine (awake_any _).mono ?_; rintro e1 w1 ⟨rfl, hb1⟩)
    go_ret
    exact ⟨rfl, hb1⟩
  by_cases hfar : 1099511627776 < base
  · go_enter Try.func5, Try.ntmps5
    go_wp2_with (go_at_call 16; refine (awake_any _).mono ?_; rintro e1 w1 ⟨rfl, hb1⟩)
    go_ret
    exact ⟨rfl, hb1⟩
  by_cases hneg : base < 0
  all_goals
    go_enter Try.func5, Try.ntmps5
    go_wp2_with (go_at_call 25; refine (inner_any t base _).mono ?_; rintro e1 w1 ⟨rfl, _, hb1⟩)
    refine wp_loop_rounds 1 ?_
    rw [rounds_succ]
    go_wp2_with (go_at_call 16; refine (awake_any _).mono ?_; rintro e2 w2 ⟨rfl, hb2⟩)
    go_ret
    exact ⟨rfl, (hb1.alloc hb1.size _).trans (hb2.mono (by have := hb1.size; simp; omega))⟩
theorem cellsInt : Try.prog.cellsOf 3 = 1 := by kernel_rfl
theorem cellsStr : Try.prog.cellsOf 9 = 1 := by kernel_rfl
theorem cellsOp : Try.prog.cellsOf 45 = 4 := by kernel_rfl
/-- What an operation reads as. -/
theorem op_open {H : Type} {enc : TypeId × Value → H} {w : World} {base : Nat} {spare : Nat → Bool} {held : Bool} {n : Nat} {cs : List Value} {y : DataW H × List MemPlace} (h : DataW.trod enc Try.prog w base spare held n 45 cs = some y) :
    ∃ (q on oc : Int) (os : ByteArray), cs = [.int .i64 q, .int .i64 on, .int .i64 oc, .string os] ∧ -9223372036854775808 ≤ on ∧ on ≤ 9223372036854775807 := by
  obtain ⟨xs, m, _, _, hlen, hxl, hf⟩ := DataW.trod_struct Try.underlying45 h
  rw [cellsOp] at hlen
  match cs, hlen with
  | [c0, c1, c2, c3], _ =>
    match xs, hxl with
    | [x0, x1, x2, x3], _ =>
      have f0 : DataW.trod enc Try.prog w base spare held m 3 ((List.drop 0 [c0, c1, c2, c3]).take (Try.prog.cellsOf 3)) = some x0 := hf 0 _ rfl
      have f1 : DataW.trod enc Try.prog w base spare held m 3 ((List.drop 1 [c0, c1, c2, c3]).take (Try.prog.cellsOf 3)) = some x1 := hf 1 _ rfl
      have f2 : DataW.trod enc Try.prog w base spare held m 3 ((List.drop 2 [c0, c1, c2, c3]).take (Try.prog.cellsOf 3)) = some x2 := hf 2 _ rfl
      have f3 : DataW.trod enc Try.prog w base spare held m 9 ((List.drop 3 [c0, c1, c2, c3]).take (Try.prog.cellsOf 9)) = some x3 := hf 3 _ rfl
      simp only [cellsInt, cellsStr] at f0 f1 f2 f3
      obtain ⟨q, e0, _, _⟩ := DataW.trod_int Try.underlying3 f0
      obtain ⟨on, e1, _, w1⟩ := DataW.trod_int Try.underlying3 f1
      obtain ⟨oc, e2, _, _⟩ := DataW.trod_int Try.underlying3 f2
      obtain ⟨os, e3, _, _⟩ := DataW.trod_string Try.underlying9 f3
      simp at e0 e1 e2 e3
      subst e0 e1 e2 e3
      obtain ⟨b0, b1⟩ := bounds_i64 w1
      exact ⟨q, on, oc, os, rfl, b0, b1⟩
theorem ops_open {H : Type} {enc : TypeId × Value → H} {w : World} {d : DataW H} {p : List MemPlace} {x : Option Addr} {len cap : Nat} (h : DataW.Trod enc Try.prog w 0 (fun _ => true) true 40 (.slice x len cap) d p) :
    (x = none ∧ len = 0 ∧ cap = 0) ∨ ∃ a, x = some a ∧ len ≤ cap ∧ cap ≤ maxLen ∧ ∀ i, i < len → ∃ q on oc os, OpAt w a i q on oc os := by
  obtain ⟨fuel, hf⟩ := h
  rcases Go.Deep.open_slice Try.underlying40 hf with ⟨hcs, _⟩ | ⟨a, l, c, m, n, D, Pl, hcs, _, hlc, hcm, hm, _, hel⟩
  · simp [Value.cells] at hcs
    exact .inl hcs
  · simp [Value.cells] at hcs
    obtain ⟨rfl, rfl, rfl⟩ := hcs
    refine .inr ⟨a, rfl, hlc, hcm, fun i hi => ?_⟩
    obtain ⟨cs, hc, ht⟩ := hel i (by simp at hm; omega)
    obtain ⟨q, on, oc, os, rfl, b0, b1⟩ := op_open ht
    rw [cellsOp] at hc
    obtain ⟨_, _, hat⟩ := World.cells?_some hc
    have h0 := hat 0 (by omega)
    have h1 := hat 1 (by omega)
    have h2 := hat 2 (by omega)
    have h3 := hat 3 (by omega)
    simp only [Addr.add_zero', Addr.add_succ'] at h0 h1 h2 h3
    exact ⟨q, on, oc, os, ⟨by simpa [Addr.add] using h0, h1, h2, h3, b0, b1⟩⟩
theorem walk (a0 : ByteArray) (a1 : Int) (x2 : Option Addr) (len2 cap2 : Nat) (w : World) (w0 : a0.size ≤ maxLen) (w1 : (Lit.int .i64 a1).wf = true)
    (h : (x2 = none ∧ len2 = 0 ∧ cap2 = 0) ∨ ∃ a, x2 = some a ∧ len2 ≤ cap2 ∧ cap2 ≤ maxLen ∧ ∀ i, i < len2 → ∃ q on oc os, OpAt w a i q on oc os) :
    Calls Try.prog 5 #[.string a0, .int .i64 a1, .slice x2 len2 cap2] w fun e w' => e = .returned (.bool true) ∧ Below w.heap.size w w' := by
  obtain ⟨b0, b1⟩ := bounds_i64 w1
  rcases h with ⟨rfl, rfl, rfl⟩ | ⟨a, rfl, hlc, hcm, hops⟩
  · exact reads_nil a0 a1 w b0 b1 w0
  · exact reads_walk a0 a1 a len2 cap2 w b0 b1 hlc hcm w0 hops
set_option maxRecDepth 100000 in
theorem lifted (os : Os) (started : os.Started) (H : Type) (enc : TypeId × Value → H) :
    ReturnsInHanded {} Try.checked os 5 .any (Rows.octetReadsSpec.pre6 enc Try.prog Try.f5 Rows.octetReadsRow.domain false) (Rows.octetReadsSpec.post enc Try.prog Try.f5 false true false false) := by
  refine returnsInHanded_of_change (C := Try.checked) own started (by kernel_rfl) Try.func5
    (ChangeSpec.witness6 (enc := enc) (C := Try.checked) false ⟨#[], #[.string ByteArray.empty, .int .i64 0, .slice none 0 0], []⟩ 8 (by kernel_rfl) (by kernel_rfl) (by kernel_rfl) (by kernel_rfl)) ?_
  intro W base args ds gs before hval0 hW hcnd _
  have hval : ∀ (j : Nat) t v, Try.f5.params[j]? = some t → args[j]? = some v → Value.okWide Try.prog W .any base t v := hval0
  have hW' := hW
  obtain ⟨p, q, hA0, hV, rfl, hfz, hnd⟩ := hW
  have hA : DataW.TrodAll enc Try.prog W 0 (fun _ => true) true Try.f5.params.toList args.toList ds p := hA0
  rw [Try.params5] at hA hval
  obtain ⟨v0, vs0, d0, ds0, p0, q0, hargs, rfl, rfl, h0, r0⟩ := trodAll_cons hA
  obtain ⟨v1, vs1, d1, ds1, p1, q1, rfl, rfl, rfl, h1, r1⟩ := trodAll_cons r0
  obtain ⟨v2, vs2, d2, ds2, p2, q2, rfl, rfl, rfl, h2, r2⟩ := trodAll_cons r1
  obtain ⟨rfl, rfl, rfl⟩ := trodAll_nil r2
  obtain rfl : args = #[v0, v1, v2] := by cases args; simp_all
  obtain ⟨rfl, rfl⟩ := trodVars_none hV
  obtain ⟨a0, rfl, rfl, rfl, w0⟩ := open_string Try.underlying9 (hval 0 9 v0 rfl rfl) h0
  obtain ⟨a1, rfl, rfl, rfl, w1⟩ := open_int Try.underlying3 (hval 1 3 v1 rfl rfl) h1
  obtain ⟨x2, len2, cap2, rfl⟩ := okWide_slice Try.underlying40 (hval 2 40 v2 rfl rfl)
  have k2 := h2
  have lt2 : ∀ x ∈ p2, x.block < W.heap.size := by obtain ⟨m, hm⟩ := k2; exact DataW.trod_lt m _ _ _ hm
  have w2 := ops_open h2
  clear hA0 hval0
  refine (walk a0 a1 x2 len2 cap2 W w0 w1 w2).mono fun e W' ⟨he, bel⟩ => ?_
  subst he
  exact ⟨_, rfl, _, _, _, [], _, [], hW', trodAll_mk1 (shut_bool Try.underlying4 _), (trodAll_cons_mk (shut_string Try.underlying9 w0) (trodAll_cons_mk (shut_int Try.underlying3 w1) (trodAll_cons_mk (Below.trod laidOut (by kernel_rfl) (of_decide_eq_true (by kernel_rfl)) k2 bel lt2) trodAll_mk0))), rfl, bel.frame _, fun h => by cases h⟩

theorem over : Rows.octetReadsRow.holds Try.pinned (OpenSpec.ofChange Rows.octetReadsSpec) :=
  OpenClaim.holds_of_wide 5 Try.f5 rfl rfl rfl rfl rfl rfl rfl ⟨rfl, rfl, rfl, rfl, rfl⟩ rfl rfl rfl rfl rfl (by kernel_rfl) Try.func5 (by kernel_rfl)
    (of_decide_eq_true (by kernel_rfl)) (by unfold Func.isWrapper; first | (rw [if_pos (by decide +kernel)]; kernel_rfl) | (rw [if_neg (by decide +kernel)]; exact ⟨rfl, rfl⟩))
    (fun os started H enc _ => lifted os started H enc)

theorem proved : Rows.OctetReadsSaid := over
#print axioms proved
end Go.Proofs.Ytkhcmgnempjjcaa.octetReads
