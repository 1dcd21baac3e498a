/-
  The law OctetNumbers of layer 1: numbers as bytes, of any size, are the document's, and are read as they were: the function returns true whatever number and size it is given, and leaves them alone. No condition.
-/
import Derived.Test.YtkhcmgnempjjcaaRows
import Derived.Test.YtkhcmgnempjjcaaOct8
import Derived.WalkKit
import Derived.ProofKit
import Derived.OpenShut
import Derived.ShutString
import Derived.ChangeOld
import Derived.Below
namespace Go.Proofs.Ytkhcmgnempjjcaa.octetNumbers
open Go.ChangeShapes Go.WideShapes Go.ChangeAt Go.RowKit
open Go.ChangeMaps (open_string shut_string)
set_option linter.unusedVariables false

theorem own : ownKnob Try.prog.godebug = none := by kernel_rfl
theorem laidOut : laidOutB Try.prog = true := by kernel_rfl

set_option maxRecDepth 100000 in
theorem walk_m (n m : Nat) (z : Int) (want : Nat) (t s : ByteArray) (w : World) (h0 : -9223372036854775808 ≤ z) (h1 : z ≤ 9223372036854775807) (hm : min (max z 0) 8 = m) (hn : n ≤ 18446744073709551615)
    (hts : t.size = m) (hss : s.size = m) (hr : rev s = t) (hr' : rev t = s) (hnt : num t.data.toList = want) (hw : m < 8 ∧ want = n % 256 ^ m ∨ m = 8 ∧ want = n)
    (s1 : ∀ w, Calls Try.prog 8 #[.int .u64 n, .int .i64 z] w fun e' w' => e' = .returned (.string t) ∧ Below w.heap.size w w')
    (s2 : ∀ w, Calls Try.prog 9 #[.int .u64 n, .int .i64 z] w fun e' w' => e' = .returned (.string s) ∧ Below w.heap.size w w')
    (s3 : ∀ w, Calls Try.prog 10 #[.int .u64 n, .int .i64 z] w fun e' w' => e' = .returned (.string t) ∧ Below w.heap.size w w')
    (s4 : ∀ w, Calls Try.prog 11 #[.int .u64 n, .int .i64 z] w fun e' w' => e' = .returned (.string s) ∧ Below w.heap.size w w') :
    Calls Try.prog 3 #[.int .u64 n, .int .i64 z] w fun e w' => e = .returned (.bool true) ∧ Below w.heap.size w w' := by
  have s5 : ∀ w, Calls Try.prog 12 #[.string s] w fun e' w' => e' = .returned (.string t) ∧ w = w' := fun w => by rw [← hr]; exact refBack_any s w (by omega)
  have S1 := Lib.hid s1; have S2 := Lib.hid s2; have S3 := Lib.hid s3; have S4 := Lib.hid s4; have S5 := Lib.hid s5
  have HM := Lib.hid hm; have HT := Lib.hid hts; have HS := Lib.hid hss; have HR := Lib.hid hr; have HN := Lib.hid hnt
  have hm8 : m ≤ 8 := by omega
  have hns : num s.data.toList.reverse = want := by rw [← hnt, ← hr]; simp [rev]
  have HNS := Lib.hid hns
  clear s1 s2 s3 s4 s5 hm hts hss hr hr' hnt hns
  rcases hw with ⟨hlt, hw⟩ | ⟨hlt, hw⟩
  · have hp : 0 < 256 ^ m := Nat.pow_pos (by omega)
    have HW := Lib.hid hw
    clear hw
    obtain ⟨P, hP⟩ : ∃ P, P = 256 ^ m := ⟨_, rfl⟩
    have s6 : ∀ w, Calls Try.prog 14 #[.int .i64 m] w fun e' w' => e' = .returned (.int .u64 (P : Int)) ∧ w = w' := fun w => by rw [hP]; exact refPower_any m w (by omega)
    have S6 := Lib.hid s6
    rw [← hP] at hp HW
    clear s6 hP
    go_enter Try.func3, Try.ntmps3
    go_wp2_with (first | (go_at_call 8; refine (S1.out _).mono ?_; rintro e1 w1 ⟨rfl, hb1⟩) | (go_at_call 9; refine (S2.out _).mono ?_; rintro e1 w2 ⟨rfl, hb2⟩) | (go_at_call 10; refine (S3.out _).mono ?_; rintro e1 w3 ⟨rfl, hb3⟩) | (go_at_call 11; refine (S4.out _).mono ?_; rintro e1 w4 ⟨rfl, hb4⟩) | (go_at_call 12; refine (S5.out _).mono ?_; rintro e1 w5 ⟨rfl, rfl⟩) | (go_at_call 13; refine (refSize_any _ _ _ h0 h1 HM.out).mono ?_; rintro e1 w6 ⟨rfl, rfl⟩) | (go_at_call 14; refine (S6.out _).mono ?_; rintro e1 w7 ⟨rfl, rfl⟩))
    refine (read_any t _).mono ?_
    rintro e8 w8 ⟨rfl, hR8, hb8⟩
    have H8 := Lib.hid hR8; clear hR8
    go_wp2_with (fail)
    refine (read_any s _).mono ?_
    rintro e9 w9 ⟨rfl, hR9, hb9⟩
    have H9 := Lib.hid hR9; clear hR9
    have l8 := hb8.size
    have L8 := Lib.hid H8.out.lt
    go_wp2_with (fail)
    refine (awake_any _).mono ?_
    rintro e10 w10 ⟨rfl, hb10⟩
    have H10 := Lib.hid ((H8.out.below hb9 L8.out).below hb10 (Nat.lt_of_lt_of_le L8.out hb9.size))
    have H10' := Lib.hid (H9.out.below hb10 H9.out.lt)
    go_wp2_with (fail)
    refine (rbig_full _ _ t z m 0 ((n : Int) % (P : Int)) H10.out h0 h1 HM.out HT.out (by rw [HN.out, HW.out]; simp)).mono ?_
    rintro e11 w11 ⟨rfl, hR11, hU11⟩
    have H11 := Lib.hid hR11; clear hR11
    have H11' := Lib.hid (H10'.out.upd hU11 (Nat.ne_of_gt L8.out))
    go_wp2_with (fail)
    refine (rsmall_full _ _ s z m 0 ((n : Int) % (P : Int)) H11'.out h0 h1 HM.out HS.out (by rw [HNS.out, HW.out]; simp)).mono ?_
    rintro e12 w12 ⟨rfl, hR12, hU12⟩
    have H12 := Lib.hid (H11.out.upd hU12 (Nat.ne_of_lt L8.out)); clear hR12
    go_wp2_with (fail)
    refine (left_l _ _ t m 0 _ _ H12.out (by have := HT.out; omega) (by have := HT.out; unfold maxLen; omega)).mono ?_
    rintro e13 w13 ⟨rfl, hb13⟩
    have H13 := Lib.hid (H12.out.below hb13 H12.out.lt)
    go_wp2_with (first | (go_at_call 20; refine (fault_some _ _ _ _ H13.out.lt H13.out.c3 H13.out.c4).mono ?_; rintro e6 w14 ⟨rfl, hb14⟩) | (go_at_call 21; refine (bad_any _ _ _).mono ?_; rintro e7 w15 ⟨rfl, hb15⟩))
    go_ret
    have g2 := hb1.trans (hb2.mono hb1.size)
    have g3 := g2.trans (hb3.mono g2.size)
    have g4 := g3.trans (hb4.mono g3.size)
    have g8 := g4.trans (hb8.mono g4.size)
    have g9 := g8.trans (hb9.mono g8.size)
    have g10 := g9.trans (hb10.mono g9.size)
    have g11 : Below w.heap.size w w11 := Upd.below g10 hU11 g4.size g10.size
    have g12 : Below w.heap.size w w12 := Upd.below g11 hU12 g8.size g11.size
    have g13 := g12.trans (hb13.mono g12.size)
    have g14 := g13.trans (hb14.mono g13.size)
    exact ⟨rfl, g14.trans (hb15.mono g14.size)⟩
  · have HW := Lib.hid hw
    clear hw
    have hge : ¬ (m : Int) < 8 := by omega
    go_enter Try.func3, Try.ntmps3
    go_wp2_with (first | (go_at_call 8; refine (S1.out _).mono ?_; rintro e1 w1 ⟨rfl, hb1⟩) | (go_at_call 9; refine (S2.out _).mono ?_; rintro e1 w2 ⟨rfl, hb2⟩) | (go_at_call 10; refine (S3.out _).mono ?_; rintro e1 w3 ⟨rfl, hb3⟩) | (go_at_call 11; refine (S4.out _).mono ?_; rintro e1 w4 ⟨rfl, hb4⟩) | (go_at_call 12; refine (S5.out _).mono ?_; rintro e1 w5 ⟨rfl, rfl⟩) | (go_at_call 13; refine (refSize_any _ _ _ h0 h1 HM.out).mono ?_; rintro e1 w6 ⟨rfl, rfl⟩))
    refine (read_any t _).mono ?_
    rintro e8 w8 ⟨rfl, hR8, hb8⟩
    have H8 := Lib.hid hR8; clear hR8
    go_wp2_with (fail)
    refine (read_any s _).mono ?_
    rintro e9 w9 ⟨rfl, hR9, hb9⟩
    have H9 := Lib.hid hR9; clear hR9
    have l8 := hb8.size
    have L8 := Lib.hid H8.out.lt
    go_wp2_with (fail)
    refine (awake_any _).mono ?_
    rintro e10 w10 ⟨rfl, hb10⟩
    have H10 := Lib.hid ((H8.out.below hb9 L8.out).below hb10 (Nat.lt_of_lt_of_le L8.out hb9.size))
    have H10' := Lib.hid (H9.out.below hb10 H9.out.lt)
    go_wp2_with (fail)
    refine (rbig_full _ _ t z m 0 (n : Int) H10.out h0 h1 HM.out HT.out (by rw [HN.out, HW.out])).mono ?_
    rintro e11 w11 ⟨rfl, hR11, hU11⟩
    have H11 := Lib.hid hR11; clear hR11
    have H11' := Lib.hid (H10'.out.upd hU11 (Nat.ne_of_gt L8.out))
    go_wp2_with (fail)
    refine (rsmall_full _ _ s z m 0 (n : Int) H11'.out h0 h1 HM.out HS.out (by rw [HNS.out, HW.out])).mono ?_
    rintro e12 w12 ⟨rfl, hR12, hU12⟩
    have H12 := Lib.hid (H11.out.upd hU12 (Nat.ne_of_lt L8.out)); clear hR12
    go_wp2_with (fail)
    refine (left_l _ _ t m 0 _ _ H12.out (by have := HT.out; omega) (by have := HT.out; unfold maxLen; omega)).mono ?_
    rintro e13 w13 ⟨rfl, hb13⟩
    have H13 := Lib.hid (H12.out.below hb13 H12.out.lt)
    go_wp2_with (first | (go_at_call 20; refine (fault_some _ _ _ _ H13.out.lt H13.out.c3 H13.out.c4).mono ?_; rintro e6 w14 ⟨rfl, hb14⟩) | (go_at_call 21; refine (bad_any _ _ _).mono ?_; rintro e7 w15 ⟨rfl, hb15⟩))
    go_ret
    have g2 := hb1.trans (hb2.mono hb1.size)
    have g3 := g2.trans (hb3.mono g2.size)
    have g4 := g3.trans (hb4.mono g3.size)
    have g8 := g4.trans (hb8.mono g4.size)
    have g9 := g8.trans (hb9.mono g8.size)
    have g10 := g9.trans (hb10.mono g9.size)
    have g11 : Below w.heap.size w w11 := Upd.below g10 hU11 g4.size g10.size
    have g12 : Below w.heap.size w w12 := Upd.below g11 hU12 g8.size g11.size
    have g13 := g12.trans (hb13.mono g12.size)
    have g14 := g13.trans (hb14.mono g13.size)
    exact ⟨rfl, g14.trans (hb15.mono g14.size)⟩
theorem rev_bigL (m n : Nat) : rev ⟨(bigL 256 m n).reverse.toArray⟩ = ⟨(bigL 256 m n).toArray⟩ := by simp [rev]
theorem walk (a0 : Int) (a1 : Int) (w : World) (w0 : (Lit.int .u64 a0).wf = true) (w1 : (Lit.int .i64 a1).wf = true) :
    Calls Try.prog 3 #[.int .u64 a0, .int .i64 a1] w fun e w' => e = .returned (.bool true) ∧ Below w.heap.size w w' := by
  obtain ⟨b0, b1⟩ := bounds_u64 w0
  obtain ⟨c0, c1⟩ := bounds_i64 w1
  obtain ⟨n, rfl⟩ := Int.eq_ofNat_of_zero_le b0
  obtain ⟨m, hm⟩ : ∃ m : Nat, min (max a1 0) 8 = m := ⟨(min (max a1 0) 8).toNat, by omega⟩
  have hn : n ≤ 18446744073709551615 := by omega
  have hnum := num_bigL m n
  have hsz : ∀ l : List UInt8, (⟨l.toArray⟩ : ByteArray).size = l.length := size_of_list
  refine walk_m n m a1 (n % 256 ^ m) ⟨(bigL 256 m n).toArray⟩ ⟨(bigL 256 m n).reverse.toArray⟩ w c0 c1 hm hn (by rw [hsz, bigL_len]) (by rw [hsz, List.length_reverse, bigL_len]) (rev_bigL m n) rfl hnum ?_ (fun w => big_any n a1 m w c0 c1 hm hn) (fun w => small_any n a1 m w c0 c1 hm hn) (fun w => refBig_any n a1 m w c0 c1 hm hn) (fun w => refSmall_any n a1 m w c0 c1 hm hn)
  by_cases h8 : m = 8
  · subst h8
    exact .inr ⟨rfl, Nat.mod_eq_of_lt (by omega)⟩
  · exact .inl ⟨by omega, rfl⟩
set_option maxRecDepth 100000 in
theorem lifted (os : Os) (started : os.Started) (H : Type) (enc : TypeId × Value → H) :
    ReturnsInHanded {} Try.checked os 3 .any (Rows.octetNumbersSpec.pre6 enc Try.prog Try.f3 Rows.octetNumbersRow.domain false) (Rows.octetNumbersSpec.post enc Try.prog Try.f3 false true false false) := by
  refine returnsInHanded_of_change (C := Try.checked) own started (by kernel_rfl) Try.func3
    (ChangeSpec.witness6 (enc := enc) (C := Try.checked) false ⟨#[], #[.int .u64 0, .int .i64 0], []⟩ 8 (by kernel_rfl) (by kernel_rfl) (by kernel_rfl) (by kernel_rfl)) ?_
  intro W base args ds gs before hval0 hW hcnd _
  have hval : ∀ (j : Nat) t v, Try.f3.params[j]? = some t → args[j]? = some v → Value.okWide Try.prog W .any base t v := hval0
  have hW' := hW
  obtain ⟨p, q, hA0, hV, rfl, hfz, hnd⟩ := hW
  have hA : DataW.TrodAll enc Try.prog W 0 (fun _ => true) true Try.f3.params.toList args.toList ds p := hA0
  rw [Try.params3] at hA hval
  obtain ⟨v0, vs0, d0, ds0, p0, q0, hargs, rfl, rfl, h0, r0⟩ := trodAll_cons hA
  obtain ⟨v1, vs1, d1, ds1, p1, q1, rfl, rfl, rfl, h1, r1⟩ := trodAll_cons r0
  obtain ⟨rfl, rfl, rfl⟩ := trodAll_nil r1
  obtain rfl : args = #[v0, v1] := by cases args; simp_all
  obtain ⟨rfl, rfl⟩ := trodVars_none hV
  obtain ⟨a0, rfl, rfl, rfl, w0⟩ := open_int Try.underlying22 (hval 0 22 v0 rfl rfl) h0
  obtain ⟨a1, rfl, rfl, rfl, w1⟩ := open_int Try.underlying3 (hval 1 3 v1 rfl rfl) h1
  clear hA0 hval0
  refine (walk a0 a1 W w0 w1).mono fun e W' ⟨he, bel⟩ => ?_
  subst he
  exact ⟨_, rfl, _, _, _, [], _, [], hW', trodAll_mk1 (shut_bool Try.underlying4 _), (trodAll_cons_mk (shut_int Try.underlying22 w0) (trodAll_cons_mk (shut_int Try.underlying3 w1) trodAll_mk0)), rfl, bel.frame _, fun h => by cases h⟩

theorem over : Rows.octetNumbersRow.holds Try.pinned (OpenSpec.ofChange Rows.octetNumbersSpec) :=
  OpenClaim.holds_of_wide 3 Try.f3 rfl rfl rfl rfl rfl rfl rfl ⟨rfl, rfl, rfl, rfl, rfl⟩ rfl rfl rfl rfl rfl (by kernel_rfl) Try.func3 (by kernel_rfl)
    (of_decide_eq_true (by kernel_rfl)) (by unfold Func.isWrapper; first | (rw [if_pos (by decide +kernel)]; kernel_rfl) | (rw [if_neg (by decide +kernel)]; exact ⟨rfl, rfl⟩))
    (fun os started H enc _ => lifted os started H enc)

theorem proved : Rows.OctetNumbersSaid := over
#print axioms proved
end Go.Proofs.Ytkhcmgnempjjcaa.octetNumbers
