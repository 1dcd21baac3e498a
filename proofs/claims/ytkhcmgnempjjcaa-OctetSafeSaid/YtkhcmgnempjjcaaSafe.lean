/-
  The law OctetSafe of layer 1: a number in seven bits a byte is the document's, or too great; each byte is below 128; it is read as it was: the function returns true whatever number it is given, and leaves it alone. No condition.
-/
import Derived.Test.YtkhcmgnempjjcaaRows
import Derived.Test.YtkhcmgnempjjcaaOct6
import Derived.WalkKit
import Derived.ProofKit
import Derived.OpenShut
import Derived.ShutString
import Derived.ChangeOld
import Derived.Below
namespace Go.Proofs.Ytkhcmgnempjjcaa.octetSafe
open Go.ChangeShapes Go.WideShapes Go.ChangeAt Go.RowKit
open Go.ChangeMaps (open_string shut_string)
set_option linter.unusedVariables false

theorem own : ownKnob Try.prog.godebug = none := by kernel_rfl
theorem laidOut : laidOutB Try.prog = true := by kernel_rfl

theorem walk_no (a0 : Int) (w : World) (h : 268435455 < a0) :
    Calls Try.prog 4 #[.int .u64 a0] w fun e w' => e = .returned (.bool true) ∧ Below w.heap.size w w' := by
  go_enter Try.func4, Try.ntmps4
  go_wp2_with (first | (go_at_call 22; refine (safe_no _ _ h).mono ?_; rintro e1 w1 ⟨rfl, rfl⟩) | (go_at_call 16; refine (awake_any _).mono ?_; rintro e2 w2 ⟨rfl, hb2⟩))
  go_ret
  exact ⟨rfl, hb2⟩
set_option maxRecDepth 100000 in
theorem walk_t (n : Nat) (t : ByteArray) (w : World) (h : n ≤ 268435455) (hs : t.size = 4) (hc : ∀ c ∈ t.data.toList, c.toNat < 128) (hn : num7 t.data.toList = n)
    (s1 : Calls Try.prog 22 #[.int .u64 n] w fun e' w' => e' = .returned (.tuple #[.string t, .bool true]) ∧ Below w.heap.size w w')
    (s2 : ∀ x, Calls Try.prog 23 #[.int .u64 n] x fun e' w' => e' = .returned (.string t) ∧ Below x.heap.size x w') :
    Calls Try.prog 4 #[.int .u64 n] w fun e w' => e = .returned (.bool true) ∧ Below w.heap.size w w' := by
  have S1 := Lib.hid s1; have S2 := Lib.hid s2; have HC := Lib.hid hc; have HN := Lib.hid hn; have HS := Lib.hid hs
  have hz4 : ((t.size : Int) != 4) = false := by rw [hs]; rfl
  clear s1 s2 hc hn hs
  go_enter Try.func4, Try.ntmps4
  go_wp2_with (first | (go_at_call 22; refine S1.out.mono ?_; rintro e1 w1 ⟨rfl, hb1⟩) | (go_at_call 23; refine (S2.out _).mono ?_; rintro e2 w2 ⟨rfl, hb2⟩))
  go_loop [36] (fun i => ∃ k : Nat, k ≤ 4 ∧ i = .int .i64 k) (fun i => 4 - (intOf i).toNat)
  case atStart => exact ⟨0, by omega, rfl⟩
  case round =>
    obtain ⟨k, hk, rfl⟩ := hrel
    by_cases hlt : k < 4
    · have hks : k < t.size := by have := HS.out; omega
      have hd : ((t[k].toNat : Nat) : Int) < 128 := by have := HC.out _ (mem_at t k hks); omega
      go_wp2
      go_round
      case rel => exact ⟨k + 1, by omega, by go_num⟩
      case measure => simp [intOf]; omega
    · go_wp2_with (first | (go_at_call 15; refine (read_any t _).mono ?_; rintro e3 w3 ⟨rfl, hR3, hb3⟩; have H3 := Lib.hid hR3; clear hR3) | (go_at_call 16; refine (awake_any _).mono ?_; rintro e4 w4 ⟨rfl, hb4⟩; have H4 := Lib.hid (H3.out.below hb4 H3.out.lt)) | (go_at_call 24; refine (rsafe_full _ _ t _ H4.out HS.out HC.out).mono ?_; rintro e5 w5 ⟨rfl, hR5, hU5⟩; have H5 := Lib.hid hR5; clear hR5; rw [HN.out]) | (go_at_call 20; refine (fault_some _ _ _ _ H5.out.lt H5.out.c3 H5.out.c4).mono ?_; rintro e6 w6 ⟨rfl, hb6⟩) | (go_at_call 21; refine (bad_any _ _ _).mono ?_; rintro e7 w7 ⟨rfl, hb7⟩))
      go_ret
      have g2 := hb1.trans (hb2.mono hb1.size)
      have g3 := g2.trans (hb3.mono g2.size)
      have g4 := g3.trans (hb4.mono g3.size)
      have g5 : Below w.heap.size w w5 := Upd.below g4 hU5 g2.size g4.size
      have g6 := g5.trans (hb6.mono g5.size)
      exact ⟨rfl, g6.trans (hb7.mono g6.size)⟩
theorem walk_yes (n : Nat) (w : World) (h : n ≤ 268435455) :
    Calls Try.prog 4 #[.int .u64 n] w fun e w' => e = .returned (.bool true) ∧ Below w.heap.size w w' :=
  walk_t n ⟨(bigL 128 4 n).toArray⟩ w h (by simpa [ByteArray.size] using bigL_len 128 4 n) (by simpa using bigL_lt 128 (by omega) (by omega) 4 n) (by have := num7_bigL 4 n; show num7 (bigL 128 4 n) = n; omega) (safe_ok n w h) (fun x => refSafe_any n x h)
theorem walk (a0 : Int) (w : World) (w0 : (Lit.int .u64 a0).wf = true) :
    Calls Try.prog 4 #[.int .u64 a0] w fun e w' => e = .returned (.bool true) ∧ Below w.heap.size w w' := by
  obtain ⟨b0, b1⟩ := bounds_u64 w0
  by_cases h : 268435455 < a0
  · exact walk_no a0 w h
  · obtain ⟨n, rfl⟩ := Int.eq_ofNat_of_zero_le b0
    exact walk_yes n w (by omega)
set_option maxRecDepth 100000 in
theorem lifted (os : Os) (started : os.Started) (H : Type) (enc : TypeId × Value → H) :
    ReturnsInHanded {} Try.checked os 4 .any (Rows.octetSafeSpec.pre6 enc Try.prog Try.f4 Rows.octetSafeRow.domain false) (Rows.octetSafeSpec.post enc Try.prog Try.f4 false true false false) := by
  refine returnsInHanded_of_change (C := Try.checked) own started (by kernel_rfl) Try.func4
    (ChangeSpec.witness6 (enc := enc) (C := Try.checked) false ⟨#[], #[.int .u64 0], []⟩ 8 (by kernel_rfl) (by kernel_rfl) (by kernel_rfl) (by kernel_rfl)) ?_
  intro W base args ds gs before hval0 hW hcnd _
  have hval : ∀ (j : Nat) t v, Try.f4.params[j]? = some t → args[j]? = some v → Value.okWide Try.prog W .any base t v := hval0
  have hW' := hW
  obtain ⟨p, q, hA0, hV, rfl, hfz, hnd⟩ := hW
  have hA : DataW.TrodAll enc Try.prog W 0 (fun _ => true) true Try.f4.params.toList args.toList ds p := hA0
  rw [Try.params4] at hA hval
  obtain ⟨v0, vs0, d0, ds0, p0, q0, hargs, rfl, rfl, h0, r0⟩ := trodAll_cons hA
  obtain ⟨rfl, rfl, rfl⟩ := trodAll_nil r0
  obtain rfl : args = #[v0] := by cases args; simp_all
  obtain ⟨rfl, rfl⟩ := trodVars_none hV
  obtain ⟨a0, rfl, rfl, rfl, w0⟩ := open_int Try.underlying22 (hval 0 22 v0 rfl rfl) h0
  clear hA0 hval0
  refine (walk a0 W w0).mono fun e W' ⟨he, bel⟩ => ?_
  subst he
  exact ⟨_, rfl, _, _, _, [], _, [], hW', trodAll_mk1 (shut_bool Try.underlying4 _), (trodAll_cons_mk (shut_int Try.underlying22 w0) trodAll_mk0), rfl, bel.frame _, fun h => by cases h⟩

theorem over : Rows.octetSafeRow.holds Try.pinned (OpenSpec.ofChange Rows.octetSafeSpec) :=
  OpenClaim.holds_of_wide 4 Try.f4 rfl rfl rfl rfl rfl rfl rfl ⟨rfl, rfl, rfl, rfl, rfl⟩ rfl rfl rfl rfl rfl (by kernel_rfl) Try.func4 (by kernel_rfl)
    (of_decide_eq_true (by kernel_rfl)) (by unfold Func.isWrapper; first | (rw [if_pos (by decide +kernel)]; kernel_rfl) | (rw [if_neg (by decide +kernel)]; exact ⟨rfl, rfl⟩))
    (fun os started H enc _ => lifted os started H enc)

theorem proved : Rows.OctetSafeSaid := over
#print axioms proved
end Go.Proofs.Ytkhcmgnempjjcaa.octetSafe
