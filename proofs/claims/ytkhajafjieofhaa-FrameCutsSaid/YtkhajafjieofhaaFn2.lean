/- The document's own answer of layer 13: Print: a contract. -/
import Derived.Test.YtkhajafjieofhaaFn1
namespace Go.Proofs.Ytkhajafjieofhaa.fn
open Go.RowKit Go.Lib
open Go.Proofs.Ytkhajafjieofhaa.fr
set_option linter.unusedVariables false
theorem big_one (c : UInt8) : oct.bigL 256 1 c.toNat = [c] := by
  have : UInt8.ofNat (c.toNat / 256 ^ 0 % 256) = c := by rw [Nat.pow_zero, Nat.div_one]; simp
  simp only [oct.bigL]
  rw [this]
theorem v2_flags (n : Nat) : grpd 2 n = false ∧ msrd 2 n = false ∧ sprd 2 n = false := by
  unfold grpd msrd sprd; simp
theorem v3_flags (n : Nat) : msrd 3 n = false ∧ sprd 3 n = false := by
  unfold msrd sprd; simp
theorem nil_bs : (⟨#[]⟩ : ByteArray) = un.bs [] := rfl
/-- What Print answers. -/
def PrP (v : Int) (f : Fr) (w : World) : Ending → World → Prop := fun e w' => e = .returned (.string (un.bs (pr v f))) ∧ Below w.heap.size w w' 
set_option maxRecDepth 100000 in
set_option maxHeartbeats 4000000 in
theorem print_2fff (f : Fr) (a : Int) (w : World) (hi : f.id.length ≤ 100) (hb : f.bd.length ≤ 1000) : Calls Try.prog 26 #[.int .i64 2, vR f a] w (PrP 2 f w) := by
  unfold vR
  obtain ⟨PP, hPP⟩ : ∃ PP, PP = PrP 2 f w := ⟨_, rfl⟩
  rw [← hPP]
  have HP : Hid (∀ x w', x = un.bs (pr 2 f) → Below w.heap.size w w' → PP (.returned (.string x)) w') := Lib.hid (fun x w' h hb => by rw [hPP, h]; exact ⟨rfl, hb⟩)
  clear hPP
  obtain ⟨hG, hM, hS⟩ := v2_flags f.fm.toNat
  have hm : f.fm.toNat ≤ 255 := by have := UInt8.toNat_lt f.fm; omega
  have hd : dat 2 f = f.bd := by unfold dat; rw [hG, hM, hS]; simp
  have hdl := dat_len 2 f
  have HG := Lib.hid (fun W => Grouped_any 2 f.fm.toNat W hm)
  have HM := Lib.hid (fun W => Measured_any 2 f.fm.toNat W hm)
  have HS := Lib.hid (fun W => Spread_any 2 f.fm.toNat W hm)
  rw [hG] at HG; rw [hM] at HM; rw [hS] at HS
  have HN : Hid (∀ W, Calls Try.prog 52 #[.int .u64 ((dat 2 f).length : Int), .int .i64 3] W fun e w' => e = .returned (.string (un.bs (oct.bigL 256 3 (dat 2 f).length))) ∧ Below W.heap.size W w') := Lib.hid (fun W => oct.refBig_any (dat 2 f).length 3 3 W (by omega) (by omega) rfl (by omega))
  have q0 : (⟨#[]⟩ : ByteArray) ++ un.bs (f.bd) = un.bs (dat 2 f) := by rw [nil_bs, un.bs_app, hd]; rfl
  have qs : (un.bs (dat 2 f)).size = (dat 2 f).length := un.bs_size _
  have qb : (un.bs f.bd).size = f.bd.length := un.bs_size _
  have HV : Hid ((un.bs f.id ++ un.bs (oct.bigL 256 3 (dat 2 f).length)) ++ un.bs (dat 2 f) = un.bs (pr 2 f)) := Lib.hid (by rw [un.bs_app, un.bs_app]; unfold pr siz flg; simp)
  have s0 : (0 : Int) ≤ ((f.st.toNat : Nat) : Int) := by omega
  have s1 : ((f.st.toNat : Nat) : Int) ≤ 255 := by have := UInt8.toNat_lt f.st; omega
  have m0 : (0 : Int) ≤ ((f.fm.toNat : Nat) : Int) := by omega
  have m1 : ((f.fm.toNat : Nat) : Int) ≤ 255 := by omega
  have g0 : (0 : Int) ≤ ((f.gr.toNat : Nat) : Int) := by omega
  have g1 : ((f.gr.toNat : Nat) : Int) ≤ 255 := by have := UInt8.toNat_lt f.gr; omega
  have n1 : (dat 2 f).length ≤ 3000 := by omega
  have pl : (un.putL f.bd).length ≤ 2 * f.bd.length := by rw [un.put_len]; have := un.ext_le f.bd; omega
  have o0 : ¬ 9223372036854775807 < (un.bs f.id).size + (un.bs (oct.bigL 256 3 (dat 2 f).length)).size := by simp only [un.bs_size, oct.bigL_len]; omega
  have o1 : ¬ 9223372036854775807 < (un.bs f.id).size + (un.bs (oct.bigL 256 3 (dat 2 f).length)).size + (un.bs (dat 2 f)).size := by simp only [un.bs_size, oct.bigL_len]; omega
  have o2 : ¬ 9223372036854775807 < (un.bs f.bd).size := by simp only [un.bs_size]; omega
  try rw [qs] at o0
  try rw [qb] at o0
  try rw [qs] at o1
  try rw [qb] at o1
  try rw [qs] at o2
  try rw [qb] at o2
  clear pl
  clear hd hdl hG hM hS hm
  generalize un.bs (pr 2 f) = R at *
  generalize un.bs (oct.bigL 256 3 (dat 2 f).length) = Z0 at *
  generalize un.bs (dat 2 f) = D at *
  generalize (dat 2 f).length = n at *
  generalize un.bs f.bd = B at *
  generalize f.bd.length = L at *
  generalize un.bs f.id = I at *
  generalize ((f.st.toNat : Nat) : Int) = s at *
  generalize ((f.fm.toNat : Nat) : Int) = m at *
  generalize ((f.gr.toNat : Nat) : Int) = g at *
  have us : IntKind.u64.wrap s = s := by simp [IntKind.wrap, IntKind.bits, IntKind.signed]; omega
  have um : IntKind.u64.wrap m = m := by simp [IntKind.wrap, IntKind.bits, IntKind.signed]; omega
  have ug : IntKind.u64.wrap g = g := by simp [IntKind.wrap, IntKind.bits, IntKind.signed]; omega
  have T0 := Lib.hid (t6_new w 39 (.string I) (.int .i64 s) (.int .i64 m) (.int .i64 g) (.string B) (.int .i64 a))
  obtain ⟨_, y0, y1, y2, y3, y4, y5, _⟩ := T0.out
  go_enter Try.func26, Try.ntmps26
  go_wp2_with (first
    | (go_at_call 11; refine (HG.out _).mono ?_; rintro e1 w1 ⟨rfl, rfl⟩)
    | (go_at_call 13; refine (HM.out _).mono ?_; rintro e1 w1 ⟨rfl, rfl⟩)
    | (go_at_call 15; refine (HS.out _).mono ?_; rintro e1 w1 ⟨rfl, rfl⟩))
  go_region_held3 (fun W => W.cell? ⟨w.heap.size, 0, none⟩ = some (.string I)) (first | exact y0 | exact ⟨y0, y1, y2⟩ | go_keep) (first
    | (go_at_call 52; (with_reducible refine (HN.out _).mono ?_); rintro e1 w2 ⟨rfl, hb1⟩; have T1 := Lib.hid (T0.out.drew.below hb1); clear hb1; obtain ⟨_, y0, y1, y2, y3, y4, y5, _⟩ := T1.out))
  all_goals go_wp2_with fail
  all_goals exact HP.out _ _ HV.out T1.out.b
set_option maxRecDepth 100000 in
set_option maxHeartbeats 4000000 in
theorem print_3fff (f : Fr) (a : Int) (w : World) (hi : f.id.length ≤ 100) (hb : f.bd.length ≤ 1000) (hG : grpd 3 f.fm.toNat = false) : Calls Try.prog 26 #[.int .i64 3, vR f a] w (PrP 3 f w) := by
  unfold vR
  obtain ⟨PP, hPP⟩ : ∃ PP, PP = PrP 3 f w := ⟨_, rfl⟩
  rw [← hPP]
  have HP : Hid (∀ x w', x = un.bs (pr 3 f) → Below w.heap.size w w' → PP (.returned (.string x)) w') := Lib.hid (fun x w' h hb => by rw [hPP, h]; exact ⟨rfl, hb⟩)
  clear hPP
  obtain ⟨hM, hS⟩ := v3_flags f.fm.toNat
  have hm : f.fm.toNat ≤ 255 := by have := UInt8.toNat_lt f.fm; omega
  have hd : dat 3 f = f.bd := by unfold dat; rw [hG, hM, hS]; simp
  have hdl := dat_len 3 f
  have HG := Lib.hid (fun W => Grouped_any 3 f.fm.toNat W hm)
  have HM := Lib.hid (fun W => Measured_any 3 f.fm.toNat W hm)
  have HS := Lib.hid (fun W => Spread_any 3 f.fm.toNat W hm)
  rw [hG] at HG; rw [hM] at HM; rw [hS] at HS
  have HN : Hid (∀ W, Calls Try.prog 52 #[.int .u64 ((dat 3 f).length : Int), .int .i64 4] W fun e w' => e = .returned (.string (un.bs (oct.bigL 256 4 (dat 3 f).length))) ∧ Below W.heap.size W w') := Lib.hid (fun W => oct.refBig_any (dat 3 f).length 4 4 W (by omega) (by omega) rfl (by omega))
  have HST : Hid (∀ W, Calls Try.prog 52 #[.int .u64 (f.st.toNat : Int), .int .i64 1] W fun e w' => e = .returned (.string (un.bs [f.st])) ∧ Below W.heap.size W w') := Lib.hid (fun W => by
    have := oct.refBig_any f.st.toNat 1 1 W (by omega) (by omega) rfl (by have := UInt8.toNat_lt f.st; omega)
    rwa [big_one] at this)
  have HFM : Hid (∀ W, Calls Try.prog 52 #[.int .u64 (f.fm.toNat : Int), .int .i64 1] W fun e w' => e = .returned (.string (un.bs [f.fm])) ∧ Below W.heap.size W w') := Lib.hid (fun W => by
    have := oct.refBig_any f.fm.toNat 1 1 W (by omega) (by omega) rfl (by have := UInt8.toNat_lt f.fm; omega)
    rwa [big_one] at this)
  have q0 : (⟨#[]⟩ : ByteArray) ++ un.bs (f.bd) = un.bs (dat 3 f) := by rw [nil_bs, un.bs_app, hd]; rfl
  have qs : (un.bs (dat 3 f)).size = (dat 3 f).length := un.bs_size _
  have qb : (un.bs f.bd).size = f.bd.length := un.bs_size _
  have HV : Hid ((((un.bs f.id ++ un.bs (oct.bigL 256 4 (dat 3 f).length)) ++ un.bs [f.st]) ++ un.bs [f.fm]) ++ un.bs (dat 3 f) = un.bs (pr 3 f)) := Lib.hid (by rw [un.bs_app, un.bs_app, un.bs_app, un.bs_app]; unfold pr siz flg; simp)
  have s0 : (0 : Int) ≤ ((f.st.toNat : Nat) : Int) := by omega
  have s1 : ((f.st.toNat : Nat) : Int) ≤ 255 := by have := UInt8.toNat_lt f.st; omega
  have m0 : (0 : Int) ≤ ((f.fm.toNat : Nat) : Int) := by omega
  have m1 : ((f.fm.toNat : Nat) : Int) ≤ 255 := by omega
  have g0 : (0 : Int) ≤ ((f.gr.toNat : Nat) : Int) := by omega
  have g1 : ((f.gr.toNat : Nat) : Int) ≤ 255 := by have := UInt8.toNat_lt f.gr; omega
  have n1 : (dat 3 f).length ≤ 3000 := by omega
  have pl : (un.putL f.bd).length ≤ 2 * f.bd.length := by rw [un.put_len]; have := un.ext_le f.bd; omega
  have o0 : ¬ 9223372036854775807 < (un.bs f.id).size + (un.bs (oct.bigL 256 4 (dat 3 f).length)).size := by simp only [un.bs_size, oct.bigL_len]; omega
  have o1 : ¬ 9223372036854775807 < (un.bs f.id).size + (un.bs (oct.bigL 256 4 (dat 3 f).length)).size + (un.bs [f.st]).size := by simp only [un.bs_size, List.length_cons, List.length_nil, oct.bigL_len]; omega
  have o2 : ¬ 9223372036854775807 < (un.bs f.id).size + (un.bs (oct.bigL 256 4 (dat 3 f).length)).size + (un.bs [f.st]).size + (un.bs [f.fm]).size := by simp only [un.bs_size, List.length_cons, List.length_nil, oct.bigL_len]; omega
  have o3 : ¬ 9223372036854775807 < (un.bs f.id).size + (un.bs (oct.bigL 256 4 (dat 3 f).length)).size + (un.bs [f.st]).size + (un.bs [f.fm]).size + (un.bs (dat 3 f)).size := by simp only [un.bs_size, List.length_cons, List.length_nil, oct.bigL_len]; omega
  have o4 : ¬ 9223372036854775807 < (un.bs f.bd).size := by simp only [un.bs_size]; omega
  try rw [qs] at o0
  try rw [qb] at o0
  try rw [qs] at o1
  try rw [qb] at o1
  try rw [qs] at o2
  try rw [qb] at o2
  try rw [qs] at o3
  try rw [qb] at o3
  try rw [qs] at o4
  try rw [qb] at o4
  clear pl
  clear hd hdl hG hM hS hm
  generalize un.bs (pr 3 f) = R at *
  generalize un.bs (oct.bigL 256 4 (dat 3 f).length) = Z0 at *
  generalize un.bs [f.st] = Z1 at *
  generalize un.bs [f.fm] = Z2 at *
  generalize un.bs (dat 3 f) = D at *
  generalize (dat 3 f).length = n at *
  generalize un.bs f.bd = B at *
  generalize f.bd.length = L at *
  generalize un.bs f.id = I at *
  generalize ((f.st.toNat : Nat) : Int) = s at *
  generalize ((f.fm.toNat : Nat) : Int) = m at *
  generalize ((f.gr.toNat : Nat) : Int) = g at *
  have us : IntKind.u64.wrap s = s := by simp [IntKind.wrap, IntKind.bits, IntKind.signed]; omega
  have um : IntKind.u64.wrap m = m := by simp [IntKind.wrap, IntKind.bits, IntKind.signed]; omega
  have ug : IntKind.u64.wrap g = g := by simp [IntKind.wrap, IntKind.bits, IntKind.signed]; omega
  have T0 := Lib.hid (t6_new w 39 (.string I) (.int .i64 s) (.int .i64 m) (.int .i64 g) (.string B) (.int .i64 a))
  obtain ⟨_, y0, y1, y2, y3, y4, y5, _⟩ := T0.out
  go_enter Try.func26, Try.ntmps26
  go_wp2_with (first
    | (go_at_call 11; refine (HG.out _).mono ?_; rintro e1 w1 ⟨rfl, rfl⟩)
    | (go_at_call 13; refine (HM.out _).mono ?_; rintro e1 w1 ⟨rfl, rfl⟩)
    | (go_at_call 15; refine (HS.out _).mono ?_; rintro e1 w1 ⟨rfl, rfl⟩)
    | (go_at_call 52; (with_reducible refine (HN.out _).mono ?_); rintro e1 w2 ⟨rfl, hb1⟩; have T1 := Lib.hid (T0.out.below hb1); clear hb1; obtain ⟨_, y0, y1, y2, y3, y4, y5, _⟩ := T1.out))
  go_region_held3 (fun W => W.cell? ⟨w.heap.size, 0, none⟩ = some (.string I) ∧ W.cell? ⟨w.heap.size, 1, none⟩ = some (.int .i64 s) ∧ W.cell? ⟨w.heap.size, 2, none⟩ = some (.int .i64 m)) (first | exact y0 | exact ⟨y0, y1, y2⟩ | go_keep) (first
    | (go_at_call 52; (with_reducible refine (HFM.out _).mono ?_); rintro e1 w4 ⟨rfl, hb1⟩; have T3 := Lib.hid (T2.out.below hb1); clear hb1; obtain ⟨_, y0, y1, y2, y3, y4, y5, _⟩ := T3.out)
    | (go_at_call 52; (with_reducible refine (HST.out _).mono ?_); rintro e1 w3 ⟨rfl, hb1⟩; have T2 := Lib.hid (T1.out.drew.below hb1); clear hb1; obtain ⟨_, y0, y1, y2, y3, y4, y5, _⟩ := T2.out))
  all_goals go_wp2_with fail
  all_goals exact HP.out _ _ HV.out T3.out.b
set_option maxRecDepth 100000 in
set_option maxHeartbeats 4000000 in
theorem print_3tff (f : Fr) (a : Int) (w : World) (hi : f.id.length ≤ 100) (hb : f.bd.length ≤ 1000) (hG : grpd 3 f.fm.toNat = true) : Calls Try.prog 26 #[.int .i64 3, vR f a] w (PrP 3 f w) := by
  unfold vR
  obtain ⟨PP, hPP⟩ : ∃ PP, PP = PrP 3 f w := ⟨_, rfl⟩
  rw [← hPP]
  have HP : Hid (∀ x w', x = un.bs (pr 3 f) → Below w.heap.size w w' → PP (.returned (.string x)) w') := Lib.hid (fun x w' h hb => by rw [hPP, h]; exact ⟨rfl, hb⟩)
  clear hPP
  obtain ⟨hM, hS⟩ := v3_flags f.fm.toNat
  have hm : f.fm.toNat ≤ 255 := by have := UInt8.toNat_lt f.fm; omega
  have hd : dat 3 f = [f.gr] ++ f.bd := by unfold dat; rw [hG, hM, hS]; simp
  have hdl := dat_len 3 f
  have HG := Lib.hid (fun W => Grouped_any 3 f.fm.toNat W hm)
  have HM := Lib.hid (fun W => Measured_any 3 f.fm.toNat W hm)
  have HS := Lib.hid (fun W => Spread_any 3 f.fm.toNat W hm)
  rw [hG] at HG; rw [hM] at HM; rw [hS] at HS
  have HGR : Hid (∀ W, Calls Try.prog 52 #[.int .u64 (f.gr.toNat : Int), .int .i64 1] W fun e w' => e = .returned (.string (un.bs [f.gr])) ∧ Below W.heap.size W w') := Lib.hid (fun W => by
    have := oct.refBig_any f.gr.toNat 1 1 W (by omega) (by omega) rfl (by have := UInt8.toNat_lt f.gr; omega)
    rwa [big_one] at this)
  have HN : Hid (∀ W, Calls Try.prog 52 #[.int .u64 ((dat 3 f).length : Int), .int .i64 4] W fun e w' => e = .returned (.string (un.bs (oct.bigL 256 4 (dat 3 f).length))) ∧ Below W.heap.size W w') := Lib.hid (fun W => oct.refBig_any (dat 3 f).length 4 4 W (by omega) (by omega) rfl (by omega))
  have HST : Hid (∀ W, Calls Try.prog 52 #[.int .u64 (f.st.toNat : Int), .int .i64 1] W fun e w' => e = .returned (.string (un.bs [f.st])) ∧ Below W.heap.size W w') := Lib.hid (fun W => by
    have := oct.refBig_any f.st.toNat 1 1 W (by omega) (by omega) rfl (by have := UInt8.toNat_lt f.st; omega)
    rwa [big_one] at this)
  have HFM : Hid (∀ W, Calls Try.prog 52 #[.int .u64 (f.fm.toNat : Int), .int .i64 1] W fun e w' => e = .returned (.string (un.bs [f.fm])) ∧ Below W.heap.size W w') := Lib.hid (fun W => by
    have := oct.refBig_any f.fm.toNat 1 1 W (by omega) (by omega) rfl (by have := UInt8.toNat_lt f.fm; omega)
    rwa [big_one] at this)
  have q0 : (⟨#[]⟩ : ByteArray) ++ un.bs ([f.gr]) = un.bs ([f.gr]) := by rw [nil_bs, un.bs_app]; rfl
  have q1 : un.bs ([f.gr]) ++ un.bs (f.bd) = un.bs (dat 3 f) := by rw [un.bs_app, hd]
  have qs : (un.bs (dat 3 f)).size = (dat 3 f).length := un.bs_size _
  have qb : (un.bs f.bd).size = f.bd.length := un.bs_size _
  have HV : Hid ((((un.bs f.id ++ un.bs (oct.bigL 256 4 (dat 3 f).length)) ++ un.bs [f.st]) ++ un.bs [f.fm]) ++ un.bs (dat 3 f) = un.bs (pr 3 f)) := Lib.hid (by rw [un.bs_app, un.bs_app, un.bs_app, un.bs_app]; unfold pr siz flg; simp)
  have s0 : (0 : Int) ≤ ((f.st.toNat : Nat) : Int) := by omega
  have s1 : ((f.st.toNat : Nat) : Int) ≤ 255 := by have := UInt8.toNat_lt f.st; omega
  have m0 : (0 : Int) ≤ ((f.fm.toNat : Nat) : Int) := by omega
  have m1 : ((f.fm.toNat : Nat) : Int) ≤ 255 := by omega
  have g0 : (0 : Int) ≤ ((f.gr.toNat : Nat) : Int) := by omega
  have g1 : ((f.gr.toNat : Nat) : Int) ≤ 255 := by have := UInt8.toNat_lt f.gr; omega
  have n1 : (dat 3 f).length ≤ 3000 := by omega
  have pl : (un.putL f.bd).length ≤ 2 * f.bd.length := by rw [un.put_len]; have := un.ext_le f.bd; omega
  have o0 : ¬ 9223372036854775807 < (un.bs ([f.gr])).size + (un.bs (f.bd)).size := by simp only [un.bs_size, List.length_cons, List.length_nil]; omega
  have o1 : ¬ 9223372036854775807 < (un.bs f.id).size + (un.bs (oct.bigL 256 4 (dat 3 f).length)).size := by simp only [un.bs_size, oct.bigL_len]; omega
  have o2 : ¬ 9223372036854775807 < (un.bs f.id).size + (un.bs (oct.bigL 256 4 (dat 3 f).length)).size + (un.bs [f.st]).size := by simp only [un.bs_size, List.length_cons, List.length_nil, oct.bigL_len]; omega
  have o3 : ¬ 9223372036854775807 < (un.bs f.id).size + (un.bs (oct.bigL 256 4 (dat 3 f).length)).size + (un.bs [f.st]).size + (un.bs [f.fm]).size := by simp only [un.bs_size, List.length_cons, List.length_nil, oct.bigL_len]; omega
  have o4 : ¬ 9223372036854775807 < (un.bs f.id).size + (un.bs (oct.bigL 256 4 (dat 3 f).length)).size + (un.bs [f.st]).size + (un.bs [f.fm]).size + (un.bs (dat 3 f)).size := by simp only [un.bs_size, List.length_cons, List.length_nil, oct.bigL_len]; omega
  have o5 : ¬ 9223372036854775807 < (un.bs f.bd).size := by simp only [un.bs_size]; omega
  have o6 : ¬ 9223372036854775807 < (un.bs [f.gr]).size := by simp only [un.bs_size, List.length_cons, List.length_nil]; omega
  try rw [qs] at o0
  try rw [qb] at o0
  try rw [qs] at o1
  try rw [qb] at o1
  try rw [qs] at o2
  try rw [qb] at o2
  try rw [qs] at o3
  try rw [qb] at o3
  try rw [qs] at o4
  try rw [qb] at o4
  try rw [qs] at o5
  try rw [qb] at o5
  try rw [qs] at o6
  try rw [qb] at o6
  clear pl
  clear hd hdl hG hM hS hm
  generalize un.bs (pr 3 f) = R at *
  generalize un.bs (oct.bigL 256 4 (dat 3 f).length) = Z0 at *
  generalize un.bs [f.st] = Z1 at *
  generalize un.bs [f.fm] = Z2 at *
  generalize un.bs (dat 3 f) = D at *
  generalize (dat 3 f).length = n at *
  generalize un.bs ([f.gr]) = A0 at *
  generalize un.bs f.bd = B at *
  generalize f.bd.length = L at *
  generalize un.bs f.id = I at *
  generalize ((f.st.toNat : Nat) : Int) = s at *
  generalize ((f.fm.toNat : Nat) : Int) = m at *
  generalize ((f.gr.toNat : Nat) : Int) = g at *
  have us : IntKind.u64.wrap s = s := by simp [IntKind.wrap, IntKind.bits, IntKind.signed]; omega
  have um : IntKind.u64.wrap m = m := by simp [IntKind.wrap, IntKind.bits, IntKind.signed]; omega
  have ug : IntKind.u64.wrap g = g := by simp [IntKind.wrap, IntKind.bits, IntKind.signed]; omega
  have T0 := Lib.hid (t6_new w 39 (.string I) (.int .i64 s) (.int .i64 m) (.int .i64 g) (.string B) (.int .i64 a))
  obtain ⟨_, y0, y1, y2, y3, y4, y5, _⟩ := T0.out
  go_enter Try.func26, Try.ntmps26
  go_wp2_with (first
    | (go_at_call 11; refine (HG.out _).mono ?_; rintro e1 w1 ⟨rfl, rfl⟩)
    | (go_at_call 13; refine (HM.out _).mono ?_; rintro e1 w1 ⟨rfl, rfl⟩)
    | (go_at_call 15; refine (HS.out _).mono ?_; rintro e1 w1 ⟨rfl, rfl⟩)
    | (go_at_call 52; (with_reducible refine (HN.out _).mono ?_); rintro e1 w3 ⟨rfl, hb1⟩; have T2 := Lib.hid (T1.out.below hb1); clear hb1; obtain ⟨_, y0, y1, y2, y3, y4, y5, _⟩ := T2.out)
    | (go_at_call 52; (with_reducible refine (HGR.out _).mono ?_); rintro e1 w2 ⟨rfl, hb1⟩; have T1 := Lib.hid (T0.out.below hb1); clear hb1; obtain ⟨_, y0, y1, y2, y3, y4, y5, _⟩ := T1.out))
  go_region_held3 (fun W => W.cell? ⟨w.heap.size, 0, none⟩ = some (.string I) ∧ W.cell? ⟨w.heap.size, 1, none⟩ = some (.int .i64 s) ∧ W.cell? ⟨w.heap.size, 2, none⟩ = some (.int .i64 m)) (first | exact y0 | exact ⟨y0, y1, y2⟩ | go_keep) (first
    | (go_at_call 52; (with_reducible refine (HFM.out _).mono ?_); rintro e1 w5 ⟨rfl, hb1⟩; have T4 := Lib.hid (T3.out.below hb1); clear hb1; obtain ⟨_, y0, y1, y2, y3, y4, y5, _⟩ := T4.out)
    | (go_at_call 52; (with_reducible refine (HST.out _).mono ?_); rintro e1 w4 ⟨rfl, hb1⟩; have T3 := Lib.hid (T2.out.drew.below hb1); clear hb1; obtain ⟨_, y0, y1, y2, y3, y4, y5, _⟩ := T3.out))
  all_goals go_wp2_with fail
  all_goals exact HP.out _ _ HV.out T4.out.b
set_option maxRecDepth 100000 in
set_option maxHeartbeats 4000000 in
theorem print_4fff (f : Fr) (a : Int) (w : World) (hi : f.id.length ≤ 100) (hb : f.bd.length ≤ 1000) (hG : grpd 4 f.fm.toNat = false) (hM : msrd 4 f.fm.toNat = false) (hS : sprd 4 f.fm.toNat = false) : Calls Try.prog 26 #[.int .i64 4, vR f a] w (PrP 4 f w) := by
  unfold vR
  obtain ⟨PP, hPP⟩ : ∃ PP, PP = PrP 4 f w := ⟨_, rfl⟩
  rw [← hPP]
  have HP : Hid (∀ x w', x = un.bs (pr 4 f) → Below w.heap.size w w' → PP (.returned (.string x)) w') := Lib.hid (fun x w' h hb => by rw [hPP, h]; exact ⟨rfl, hb⟩)
  clear hPP
  have hm : f.fm.toNat ≤ 255 := by have := UInt8.toNat_lt f.fm; omega
  have hd : dat 4 f = f.bd := by unfold dat; rw [hG, hM, hS]; simp
  have hdl := dat_len 4 f
  have HG := Lib.hid (fun W => Grouped_any 4 f.fm.toNat W hm)
  have HM := Lib.hid (fun W => Measured_any 4 f.fm.toNat W hm)
  have HS := Lib.hid (fun W => Spread_any 4 f.fm.toNat W hm)
  rw [hG] at HG; rw [hM] at HM; rw [hS] at HS
  have HN : Hid (∀ W, Calls Try.prog 52 #[.int .u64 ((dat 4 f).length : Int), .int .i64 4] W fun e w' => e = .returned (.string (un.bs (oct.bigL 256 4 (dat 4 f).length))) ∧ Below W.heap.size W w') := Lib.hid (fun W => oct.refBig_any (dat 4 f).length 4 4 W (by omega) (by omega) rfl (by omega))
  have HNS : Hid (∀ W, Calls Try.prog 53 #[.int .u64 ((dat 4 f).length : Int)] W fun e w' => e = .returned (.string (un.bs (oct.bigL 128 4 (dat 4 f).length))) ∧ Below W.heap.size W w') := Lib.hid (fun W => oct.refSafe_any (dat 4 f).length W (by omega))
  have HST : Hid (∀ W, Calls Try.prog 52 #[.int .u64 (f.st.toNat : Int), .int .i64 1] W fun e w' => e = .returned (.string (un.bs [f.st])) ∧ Below W.heap.size W w') := Lib.hid (fun W => by
    have := oct.refBig_any f.st.toNat 1 1 W (by omega) (by omega) rfl (by have := UInt8.toNat_lt f.st; omega)
    rwa [big_one] at this)
  have HFM : Hid (∀ W, Calls Try.prog 52 #[.int .u64 (f.fm.toNat : Int), .int .i64 1] W fun e w' => e = .returned (.string (un.bs [f.fm])) ∧ Below W.heap.size W w') := Lib.hid (fun W => by
    have := oct.refBig_any f.fm.toNat 1 1 W (by omega) (by omega) rfl (by have := UInt8.toNat_lt f.fm; omega)
    rwa [big_one] at this)
  have q0 : (⟨#[]⟩ : ByteArray) ++ un.bs (f.bd) = un.bs (dat 4 f) := by rw [nil_bs, un.bs_app, hd]; rfl
  have qs : (un.bs (dat 4 f)).size = (dat 4 f).length := un.bs_size _
  have qb : (un.bs f.bd).size = f.bd.length := un.bs_size _
  have HV : Hid ((((un.bs f.id ++ un.bs (oct.bigL 128 4 (dat 4 f).length)) ++ un.bs [f.st]) ++ un.bs [f.fm]) ++ un.bs (dat 4 f) = un.bs (pr 4 f)) := Lib.hid (by rw [un.bs_app, un.bs_app, un.bs_app, un.bs_app]; unfold pr siz flg; simp)
  have s0 : (0 : Int) ≤ ((f.st.toNat : Nat) : Int) := by omega
  have s1 : ((f.st.toNat : Nat) : Int) ≤ 255 := by have := UInt8.toNat_lt f.st; omega
  have m0 : (0 : Int) ≤ ((f.fm.toNat : Nat) : Int) := by omega
  have m1 : ((f.fm.toNat : Nat) : Int) ≤ 255 := by omega
  have g0 : (0 : Int) ≤ ((f.gr.toNat : Nat) : Int) := by omega
  have g1 : ((f.gr.toNat : Nat) : Int) ≤ 255 := by have := UInt8.toNat_lt f.gr; omega
  have n1 : (dat 4 f).length ≤ 3000 := by omega
  have pl : (un.putL f.bd).length ≤ 2 * f.bd.length := by rw [un.put_len]; have := un.ext_le f.bd; omega
  have o0 : ¬ 9223372036854775807 < (un.bs f.id).size + (un.bs (oct.bigL 128 4 (dat 4 f).length)).size := by simp only [un.bs_size, oct.bigL_len]; omega
  have o1 : ¬ 9223372036854775807 < (un.bs f.id).size + (un.bs (oct.bigL 128 4 (dat 4 f).length)).size + (un.bs [f.st]).size := by simp only [un.bs_size, List.length_cons, List.length_nil, oct.bigL_len]; omega
  have o2 : ¬ 9223372036854775807 < (un.bs f.id).size + (un.bs (oct.bigL 128 4 (dat 4 f).length)).size + (un.bs [f.st]).size + (un.bs [f.fm]).size := by simp only [un.bs_size, List.length_cons, List.length_nil, oct.bigL_len]; omega
  have o3 : ¬ 9223372036854775807 < (un.bs f.id).size + (un.bs (oct.bigL 128 4 (dat 4 f).length)).size + (un.bs [f.st]).size + (un.bs [f.fm]).size + (un.bs (dat 4 f)).size := by simp only [un.bs_size, List.length_cons, List.length_nil, oct.bigL_len]; omega
  have o4 : ¬ 9223372036854775807 < (un.bs f.bd).size := by simp only [un.bs_size]; omega
  try rw [qs] at o0
  try rw [qb] at o0
  try rw [qs] at o1
  try rw [qb] at o1
  try rw [qs] at o2
  try rw [qb] at o2
  try rw [qs] at o3
  try rw [qb] at o3
  try rw [qs] at o4
  try rw [qb] at o4
  clear pl
  clear hd hdl hG hM hS hm
  generalize un.bs (pr 4 f) = R at *
  generalize un.bs (oct.bigL 256 4 (dat 4 f).length) = Z0 at *
  generalize un.bs (oct.bigL 128 4 (dat 4 f).length) = Z1 at *
  generalize un.bs [f.st] = Z2 at *
  generalize un.bs [f.fm] = Z3 at *
  generalize un.bs (dat 4 f) = D at *
  generalize (dat 4 f).length = n at *
  generalize un.bs f.bd = B at *
  generalize f.bd.length = L at *
  generalize un.bs f.id = I at *
  generalize ((f.st.toNat : Nat) : Int) = s at *
  generalize ((f.fm.toNat : Nat) : Int) = m at *
  generalize ((f.gr.toNat : Nat) : Int) = g at *
  have us : IntKind.u64.wrap s = s := by simp [IntKind.wrap, IntKind.bits, IntKind.signed]; omega
  have um : IntKind.u64.wrap m = m := by simp [IntKind.wrap, IntKind.bits, IntKind.signed]; omega
  have ug : IntKind.u64.wrap g = g := by simp [IntKind.wrap, IntKind.bits, IntKind.signed]; omega
  have T0 := Lib.hid (t6_new w 39 (.string I) (.int .i64 s) (.int .i64 m) (.int .i64 g) (.string B) (.int .i64 a))
  obtain ⟨_, y0, y1, y2, y3, y4, y5, _⟩ := T0.out
  go_enter Try.func26, Try.ntmps26
  go_wp2_with (first
    | (go_at_call 11; refine (HG.out _).mono ?_; rintro e1 w1 ⟨rfl, rfl⟩)
    | (go_at_call 13; refine (HM.out _).mono ?_; rintro e1 w1 ⟨rfl, rfl⟩)
    | (go_at_call 15; refine (HS.out _).mono ?_; rintro e1 w1 ⟨rfl, rfl⟩)
    | (go_at_call 53; (with_reducible refine (HNS.out _).mono ?_); rintro e1 w3 ⟨rfl, hb1⟩; have T2 := Lib.hid (T1.out.below hb1); clear hb1; obtain ⟨_, y0, y1, y2, y3, y4, y5, _⟩ := T2.out)
    | (go_at_call 52; (with_reducible refine (HN.out _).mono ?_); rintro e1 w2 ⟨rfl, hb1⟩; have T1 := Lib.hid (T0.out.below hb1); clear hb1; obtain ⟨_, y0, y1, y2, y3, y4, y5, _⟩ := T1.out))
  go_region_held3 (fun W => W.cell? ⟨w.heap.size, 0, none⟩ = some (.string I) ∧ W.cell? ⟨w.heap.size, 1, none⟩ = some (.int .i64 s) ∧ W.cell? ⟨w.heap.size, 2, none⟩ = some (.int .i64 m)) (first | exact y0 | exact ⟨y0, y1, y2⟩ | go_keep) (first
    | (go_at_call 52; (with_reducible refine (HFM.out _).mono ?_); rintro e1 w5 ⟨rfl, hb1⟩; have T4 := Lib.hid (T3.out.below hb1); clear hb1; obtain ⟨_, y0, y1, y2, y3, y4, y5, _⟩ := T4.out)
    | (go_at_call 52; (with_reducible refine (HST.out _).mono ?_); rintro e1 w4 ⟨rfl, hb1⟩; have T3 := Lib.hid (T2.out.drew.below hb1); clear hb1; obtain ⟨_, y0, y1, y2, y3, y4, y5, _⟩ := T3.out))
  all_goals go_wp2_with fail
  all_goals exact HP.out _ _ HV.out T4.out.b
set_option maxRecDepth 100000 in
set_option maxHeartbeats 4000000 in
theorem print_4fft (f : Fr) (a : Int) (w : World) (hi : f.id.length ≤ 100) (hb : f.bd.length ≤ 1000) (hG : grpd 4 f.fm.toNat = false) (hM : msrd 4 f.fm.toNat = false) (hS : sprd 4 f.fm.toNat = true) : Calls Try.prog 26 #[.int .i64 4, vR f a] w (PrP 4 f w) := by
  unfold vR
  obtain ⟨PP, hPP⟩ : ∃ PP, PP = PrP 4 f w := ⟨_, rfl⟩
  rw [← hPP]
  have HP : Hid (∀ x w', x = un.bs (pr 4 f) → Below w.heap.size w w' → PP (.returned (.string x)) w') := Lib.hid (fun x w' h hb => by rw [hPP, h]; exact ⟨rfl, hb⟩)
  clear hPP
  have hm : f.fm.toNat ≤ 255 := by have := UInt8.toNat_lt f.fm; omega
  have hd : dat 4 f = un.putL f.bd := by unfold dat; rw [hG, hM, hS]; simp
  have hdl := dat_len 4 f
  have HG := Lib.hid (fun W => Grouped_any 4 f.fm.toNat W hm)
  have HM := Lib.hid (fun W => Measured_any 4 f.fm.toNat W hm)
  have HS := Lib.hid (fun W => Spread_any 4 f.fm.toNat W hm)
  rw [hG] at HG; rw [hM] at HM; rw [hS] at HS
  have HPU : Hid (∀ W, Calls Try.prog 54 #[.string (un.bs f.bd)] W fun e w' => e = .returned (.string (un.bs (un.putL f.bd))) ∧ Below W.heap.size W w') := Lib.hid (fun W => by
    have := un.refPut_any (un.bs f.bd) W (by rw [un.bs_size]; omega)
    rwa [un.bs_list] at this)
  have HN : Hid (∀ W, Calls Try.prog 52 #[.int .u64 ((dat 4 f).length : Int), .int .i64 4] W fun e w' => e = .returned (.string (un.bs (oct.bigL 256 4 (dat 4 f).length))) ∧ Below W.heap.size W w') := Lib.hid (fun W => oct.refBig_any (dat 4 f).length 4 4 W (by omega) (by omega) rfl (by omega))
  have HNS : Hid (∀ W, Calls Try.prog 53 #[.int .u64 ((dat 4 f).length : Int)] W fun e w' => e = .returned (.string (un.bs (oct.bigL 128 4 (dat 4 f).length))) ∧ Below W.heap.size W w') := Lib.hid (fun W => oct.refSafe_any (dat 4 f).length W (by omega))
  have HST : Hid (∀ W, Calls Try.prog 52 #[.int .u64 (f.st.toNat : Int), .int .i64 1] W fun e w' => e = .returned (.string (un.bs [f.st])) ∧ Below W.heap.size W w') := Lib.hid (fun W => by
    have := oct.refBig_any f.st.toNat 1 1 W (by omega) (by omega) rfl (by have := UInt8.toNat_lt f.st; omega)
    rwa [big_one] at this)
  have HFM : Hid (∀ W, Calls Try.prog 52 #[.int .u64 (f.fm.toNat : Int), .int .i64 1] W fun e w' => e = .returned (.string (un.bs [f.fm])) ∧ Below W.heap.size W w') := Lib.hid (fun W => by
    have := oct.refBig_any f.fm.toNat 1 1 W (by omega) (by omega) rfl (by have := UInt8.toNat_lt f.fm; omega)
    rwa [big_one] at this)
  have q0 : (⟨#[]⟩ : ByteArray) ++ un.bs (un.putL f.bd) = un.bs (dat 4 f) := by rw [nil_bs, un.bs_app, hd]; rfl
  have qs : (un.bs (dat 4 f)).size = (dat 4 f).length := un.bs_size _
  have qb : (un.bs f.bd).size = f.bd.length := un.bs_size _
  have HV : Hid ((((un.bs f.id ++ un.bs (oct.bigL 128 4 (dat 4 f).length)) ++ un.bs [f.st]) ++ un.bs [f.fm]) ++ un.bs (dat 4 f) = un.bs (pr 4 f)) := Lib.hid (by rw [un.bs_app, un.bs_app, un.bs_app, un.bs_app]; unfold pr siz flg; simp)
  have s0 : (0 : Int) ≤ ((f.st.toNat : Nat) : Int) := by omega
  have s1 : ((f.st.toNat : Nat) : Int) ≤ 255 := by have := UInt8.toNat_lt f.st; omega
  have m0 : (0 : Int) ≤ ((f.fm.toNat : Nat) : Int) := by omega
  have m1 : ((f.fm.toNat : Nat) : Int) ≤ 255 := by omega
  have g0 : (0 : Int) ≤ ((f.gr.toNat : Nat) : Int) := by omega
  have g1 : ((f.gr.toNat : Nat) : Int) ≤ 255 := by have := UInt8.toNat_lt f.gr; omega
  have n1 : (dat 4 f).length ≤ 3000 := by omega
  have pl : (un.putL f.bd).length ≤ 2 * f.bd.length := by rw [un.put_len]; have := un.ext_le f.bd; omega
  have o0 : ¬ 9223372036854775807 < (un.bs f.id).size + (un.bs (oct.bigL 128 4 (dat 4 f).length)).size := by simp only [un.bs_size, oct.bigL_len]; omega
  have o1 : ¬ 9223372036854775807 < (un.bs f.id).size + (un.bs (oct.bigL 128 4 (dat 4 f).length)).size + (un.bs [f.st]).size := by simp only [un.bs_size, List.length_cons, List.length_nil, oct.bigL_len]; omega
  have o2 : ¬ 9223372036854775807 < (un.bs f.id).size + (un.bs (oct.bigL 128 4 (dat 4 f).length)).size + (un.bs [f.st]).size + (un.bs [f.fm]).size := by simp only [un.bs_size, List.length_cons, List.length_nil, oct.bigL_len]; omega
  have o3 : ¬ 9223372036854775807 < (un.bs f.id).size + (un.bs (oct.bigL 128 4 (dat 4 f).length)).size + (un.bs [f.st]).size + (un.bs [f.fm]).size + (un.bs (dat 4 f)).size := by simp only [un.bs_size, List.length_cons, List.length_nil, oct.bigL_len]; omega
  have o4 : ¬ 9223372036854775807 < (un.bs f.bd).size := by simp only [un.bs_size]; omega
  have o5 : ¬ 9223372036854775807 < (un.bs (un.putL f.bd)).size := by simp only [un.bs_size]; omega
  try rw [qs] at o0
  try rw [qb] at o0
  try rw [qs] at o1
  try rw [qb] at o1
  try rw [qs] at o2
  try rw [qb] at o2
  try rw [qs] at o3
  try rw [qb] at o3
  try rw [qs] at o4
  try rw [qb] at o4
  try rw [qs] at o5
  try rw [qb] at o5
  clear pl
  clear hd hdl hG hM hS hm
  generalize un.bs (pr 4 f) = R at *
  generalize un.bs (oct.bigL 256 4 (dat 4 f).length) = Z0 at *
  generalize un.bs (oct.bigL 128 4 (dat 4 f).length) = Z1 at *
  generalize un.bs [f.st] = Z2 at *
  generalize un.bs [f.fm] = Z3 at *
  generalize un.bs (dat 4 f) = D at *
  generalize (dat 4 f).length = n at *
  generalize un.bs (un.putL f.bd) = X0 at *
  generalize un.bs f.bd = B at *
  generalize f.bd.length = L at *
  generalize un.bs f.id = I at *
  generalize ((f.st.toNat : Nat) : Int) = s at *
  generalize ((f.fm.toNat : Nat) : Int) = m at *
  generalize ((f.gr.toNat : Nat) : Int) = g at *
  have us : IntKind.u64.wrap s = s := by simp [IntKind.wrap, IntKind.bits, IntKind.signed]; omega
  have um : IntKind.u64.wrap m = m := by simp [IntKind.wrap, IntKind.bits, IntKind.signed]; omega
  have ug : IntKind.u64.wrap g = g := by simp [IntKind.wrap, IntKind.bits, IntKind.signed]; omega
  have T0 := Lib.hid (t6_new w 39 (.string I) (.int .i64 s) (.int .i64 m) (.int .i64 g) (.string B) (.int .i64 a))
  obtain ⟨_, y0, y1, y2, y3, y4, y5, _⟩ := T0.out
  go_enter Try.func26, Try.ntmps26
  go_wp2_with (first
    | (go_at_call 11; refine (HG.out _).mono ?_; rintro e1 w1 ⟨rfl, rfl⟩)
    | (go_at_call 13; refine (HM.out _).mono ?_; rintro e1 w1 ⟨rfl, rfl⟩)
    | (go_at_call 15; refine (HS.out _).mono ?_; rintro e1 w1 ⟨rfl, rfl⟩)
    | (go_at_call 53; (with_reducible refine (HNS.out _).mono ?_); rintro e1 w4 ⟨rfl, hb1⟩; have T3 := Lib.hid (T2.out.below hb1); clear hb1; obtain ⟨_, y0, y1, y2, y3, y4, y5, _⟩ := T3.out)
    | (go_at_call 52; (with_reducible refine (HN.out _).mono ?_); rintro e1 w3 ⟨rfl, hb1⟩; have T2 := Lib.hid (T1.out.below hb1); clear hb1; obtain ⟨_, y0, y1, y2, y3, y4, y5, _⟩ := T2.out)
    | (go_at_call 54; (with_reducible refine (HPU.out _).mono ?_); rintro e1 w2 ⟨rfl, hb1⟩; have T1 := Lib.hid (T0.out.below hb1); clear hb1; obtain ⟨_, y0, y1, y2, y3, y4, y5, _⟩ := T1.out))
  go_region_held3 (fun W => W.cell? ⟨w.heap.size, 0, none⟩ = some (.string I) ∧ W.cell? ⟨w.heap.size, 1, none⟩ = some (.int .i64 s) ∧ W.cell? ⟨w.heap.size, 2, none⟩ = some (.int .i64 m)) (first | exact y0 | exact ⟨y0, y1, y2⟩ | go_keep) (first
    | (go_at_call 52; (with_reducible refine (HFM.out _).mono ?_); rintro e1 w6 ⟨rfl, hb1⟩; have T5 := Lib.hid (T4.out.below hb1); clear hb1; obtain ⟨_, y0, y1, y2, y3, y4, y5, _⟩ := T5.out)
    | (go_at_call 52; (with_reducible refine (HST.out _).mono ?_); rintro e1 w5 ⟨rfl, hb1⟩; have T4 := Lib.hid (T3.out.drew.below hb1); clear hb1; obtain ⟨_, y0, y1, y2, y3, y4, y5, _⟩ := T4.out))
  all_goals go_wp2_with fail
  all_goals exact HP.out _ _ HV.out T5.out.b
set_option maxRecDepth 100000 in
set_option maxHeartbeats 4000000 in
theorem print_4ftf (f : Fr) (a : Int) (w : World) (hi : f.id.length ≤ 100) (hb : f.bd.length ≤ 1000) (hG : grpd 4 f.fm.toNat = false) (hM : msrd 4 f.fm.toNat = true) (hS : sprd 4 f.fm.toNat = false) : Calls Try.prog 26 #[.int .i64 4, vR f a] w (PrP 4 f w) := by
  unfold vR
  obtain ⟨PP, hPP⟩ : ∃ PP, PP = PrP 4 f w := ⟨_, rfl⟩
  rw [← hPP]
  have HP : Hid (∀ x w', x = un.bs (pr 4 f) → Below w.heap.size w w' → PP (.returned (.string x)) w') := Lib.hid (fun x w' h hb => by rw [hPP, h]; exact ⟨rfl, hb⟩)
  clear hPP
  have hm : f.fm.toNat ≤ 255 := by have := UInt8.toNat_lt f.fm; omega
  have hd : dat 4 f = oct.bigL 128 4 f.bd.length ++ f.bd := by unfold dat; rw [hG, hM, hS]; simp
  have hdl := dat_len 4 f
  have HG := Lib.hid (fun W => Grouped_any 4 f.fm.toNat W hm)
  have HM := Lib.hid (fun W => Measured_any 4 f.fm.toNat W hm)
  have HS := Lib.hid (fun W => Spread_any 4 f.fm.toNat W hm)
  rw [hG] at HG; rw [hM] at HM; rw [hS] at HS
  have HSF : Hid (∀ W, Calls Try.prog 53 #[.int .u64 (f.bd.length : Int)] W fun e w' => e = .returned (.string (un.bs (oct.bigL 128 4 f.bd.length))) ∧ Below W.heap.size W w') := Lib.hid (fun W => oct.refSafe_any f.bd.length W (by omega))
  have HN : Hid (∀ W, Calls Try.prog 52 #[.int .u64 ((dat 4 f).length : Int), .int .i64 4] W fun e w' => e = .returned (.string (un.bs (oct.bigL 256 4 (dat 4 f).length))) ∧ Below W.heap.size W w') := Lib.hid (fun W => oct.refBig_any (dat 4 f).length 4 4 W (by omega) (by omega) rfl (by omega))
  have HNS : Hid (∀ W, Calls Try.prog 53 #[.int .u64 ((dat 4 f).length : Int)] W fun e w' => e = .returned (.string (un.bs (oct.bigL 128 4 (dat 4 f).length))) ∧ Below W.heap.size W w') := Lib.hid (fun W => oct.refSafe_any (dat 4 f).length W (by omega))
  have HST : Hid (∀ W, Calls Try.prog 52 #[.int .u64 (f.st.toNat : Int), .int .i64 1] W fun e w' => e = .returned (.string (un.bs [f.st])) ∧ Below W.heap.size W w') := Lib.hid (fun W => by
    have := oct.refBig_any f.st.toNat 1 1 W (by omega) (by omega) rfl (by have := UInt8.toNat_lt f.st; omega)
    rwa [big_one] at this)
  have HFM : Hid (∀ W, Calls Try.prog 52 #[.int .u64 (f.fm.toNat : Int), .int .i64 1] W fun e w' => e = .returned (.string (un.bs [f.fm])) ∧ Below W.heap.size W w') := Lib.hid (fun W => by
    have := oct.refBig_any f.fm.toNat 1 1 W (by omega) (by omega) rfl (by have := UInt8.toNat_lt f.fm; omega)
    rwa [big_one] at this)
  have q0 : (⟨#[]⟩ : ByteArray) ++ un.bs (oct.bigL 128 4 f.bd.length) = un.bs (oct.bigL 128 4 f.bd.length) := by rw [nil_bs, un.bs_app]; rfl
  have q1 : un.bs (oct.bigL 128 4 f.bd.length) ++ un.bs (f.bd) = un.bs (dat 4 f) := by rw [un.bs_app, hd]
  have qs : (un.bs (dat 4 f)).size = (dat 4 f).length := un.bs_size _
  have qb : (un.bs f.bd).size = f.bd.length := un.bs_size _
  have HV : Hid ((((un.bs f.id ++ un.bs (oct.bigL 128 4 (dat 4 f).length)) ++ un.bs [f.st]) ++ un.bs [f.fm]) ++ un.bs (dat 4 f) = un.bs (pr 4 f)) := Lib.hid (by rw [un.bs_app, un.bs_app, un.bs_app, un.bs_app]; unfold pr siz flg; simp)
  have s0 : (0 : Int) ≤ ((f.st.toNat : Nat) : Int) := by omega
  have s1 : ((f.st.toNat : Nat) : Int) ≤ 255 := by have := UInt8.toNat_lt f.st; omega
  have m0 : (0 : Int) ≤ ((f.fm.toNat : Nat) : Int) := by omega
  have m1 : ((f.fm.toNat : Nat) : Int) ≤ 255 := by omega
  have g0 : (0 : Int) ≤ ((f.gr.toNat : Nat) : Int) := by omega
  have g1 : ((f.gr.toNat : Nat) : Int) ≤ 255 := by have := UInt8.toNat_lt f.gr; omega
  have n1 : (dat 4 f).length ≤ 3000 := by omega
  have pl : (un.putL f.bd).length ≤ 2 * f.bd.length := by rw [un.put_len]; have := un.ext_le f.bd; omega
  have o0 : ¬ 9223372036854775807 < (un.bs (oct.bigL 128 4 f.bd.length)).size + (un.bs (f.bd)).size := by simp only [un.bs_size, oct.bigL_len]; omega
  have o1 : ¬ 9223372036854775807 < (un.bs f.id).size + (un.bs (oct.bigL 128 4 (dat 4 f).length)).size := by simp only [un.bs_size, oct.bigL_len]; omega
  have o2 : ¬ 9223372036854775807 < (un.bs f.id).size + (un.bs (oct.bigL 128 4 (dat 4 f).length)).size + (un.bs [f.st]).size := by simp only [un.bs_size, List.length_cons, List.length_nil, oct.bigL_len]; omega
  have o3 : ¬ 9223372036854775807 < (un.bs f.id).size + (un.bs (oct.bigL 128 4 (dat 4 f).length)).size + (un.bs [f.st]).size + (un.bs [f.fm]).size := by simp only [un.bs_size, List.length_cons, List.length_nil, oct.bigL_len]; omega
  have o4 : ¬ 9223372036854775807 < (un.bs f.id).size + (un.bs (oct.bigL 128 4 (dat 4 f).length)).size + (un.bs [f.st]).size + (un.bs [f.fm]).size + (un.bs (dat 4 f)).size := by simp only [un.bs_size, List.length_cons, List.length_nil, oct.bigL_len]; omega
  have o5 : ¬ 9223372036854775807 < (un.bs f.bd).size := by simp only [un.bs_size]; omega
  have o6 : ¬ 9223372036854775807 < (un.bs (oct.bigL 128 4 f.bd.length)).size := by simp only [un.bs_size, oct.bigL_len]; omega
  try rw [qs] at o0
  try rw [qb] at o0
  try rw [qs] at o1
  try rw [qb] at o1
  try rw [qs] at o2
  try rw [qb] at o2
  try rw [qs] at o3
  try rw [qb] at o3
  try rw [qs] at o4
  try rw [qb] at o4
  try rw [qs] at o5
  try rw [qb] at o5
  try rw [qs] at o6
  try rw [qb] at o6
  clear pl
  clear hd hdl hG hM hS hm
  generalize un.bs (pr 4 f) = R at *
  generalize un.bs (oct.bigL 256 4 (dat 4 f).length) = Z0 at *
  generalize un.bs (oct.bigL 128 4 (dat 4 f).length) = Z1 at *
  generalize un.bs [f.st] = Z2 at *
  generalize un.bs [f.fm] = Z3 at *
  generalize un.bs (dat 4 f) = D at *
  generalize (dat 4 f).length = n at *
  generalize un.bs (oct.bigL 128 4 f.bd.length) = A0 at *
  generalize un.bs f.bd = B at *
  generalize f.bd.length = L at *
  generalize un.bs f.id = I at *
  generalize ((f.st.toNat : Nat) : Int) = s at *
  generalize ((f.fm.toNat : Nat) : Int) = m at *
  generalize ((f.gr.toNat : Nat) : Int) = g at *
  have us : IntKind.u64.wrap s = s := by simp [IntKind.wrap, IntKind.bits, IntKind.signed]; omega
  have um : IntKind.u64.wrap m = m := by simp [IntKind.wrap, IntKind.bits, IntKind.signed]; omega
  have ug : IntKind.u64.wrap g = g := by simp [IntKind.wrap, IntKind.bits, IntKind.signed]; omega
  have T0 := Lib.hid (t6_new w 39 (.string I) (.int .i64 s) (.int .i64 m) (.int .i64 g) (.string B) (.int .i64 a))
  obtain ⟨_, y0, y1, y2, y3, y4, y5, _⟩ := T0.out
  go_enter Try.func26, Try.ntmps26
  go_wp2_with (first
    | (go_at_call 11; refine (HG.out _).mono ?_; rintro e1 w1 ⟨rfl, rfl⟩)
    | (go_at_call 13; refine (HM.out _).mono ?_; rintro e1 w1 ⟨rfl, rfl⟩)
    | (go_at_call 15; refine (HS.out _).mono ?_; rintro e1 w1 ⟨rfl, rfl⟩)
    | (go_at_call 53; (with_reducible refine (HNS.out _).mono ?_); rintro e1 w4 ⟨rfl, hb1⟩; have T3 := Lib.hid (T2.out.below hb1); clear hb1; obtain ⟨_, y0, y1, y2, y3, y4, y5, _⟩ := T3.out)
    | (go_at_call 52; (with_reducible refine (HN.out _).mono ?_); rintro e1 w3 ⟨rfl, hb1⟩; have T2 := Lib.hid (T1.out.below hb1); clear hb1; obtain ⟨_, y0, y1, y2, y3, y4, y5, _⟩ := T2.out)
    | (go_at_call 53; (with_reducible refine (HSF.out _).mono ?_); rintro e1 w2 ⟨rfl, hb1⟩; have T1 := Lib.hid (T0.out.below hb1); clear hb1; obtain ⟨_, y0, y1, y2, y3, y4, y5, _⟩ := T1.out))
  go_region_held3 (fun W => W.cell? ⟨w.heap.size, 0, none⟩ = some (.string I) ∧ W.cell? ⟨w.heap.size, 1, none⟩ = some (.int .i64 s) ∧ W.cell? ⟨w.heap.size, 2, none⟩ = some (.int .i64 m)) (first | exact y0 | exact ⟨y0, y1, y2⟩ | go_keep) (first
    | (go_at_call 52; (with_reducible refine (HFM.out _).mono ?_); rintro e1 w6 ⟨rfl, hb1⟩; have T5 := Lib.hid (T4.out.below hb1); clear hb1; obtain ⟨_, y0, y1, y2, y3, y4, y5, _⟩ := T5.out)
    | (go_at_call 52; (with_reducible refine (HST.out _).mono ?_); rintro e1 w5 ⟨rfl, hb1⟩; have T4 := Lib.hid (T3.out.drew.below hb1); clear hb1; obtain ⟨_, y0, y1, y2, y3, y4, y5, _⟩ := T4.out))
  all_goals go_wp2_with fail
  all_goals exact HP.out _ _ HV.out T5.out.b
set_option maxRecDepth 100000 in
set_option maxHeartbeats 4000000 in
theorem print_4ftt (f : Fr) (a : Int) (w : World) (hi : f.id.length ≤ 100) (hb : f.bd.length ≤ 1000) (hG : grpd 4 f.fm.toNat = false) (hM : msrd 4 f.fm.toNat = true) (hS : sprd 4 f.fm.toNat = true) : Calls Try.prog 26 #[.int .i64 4, vR f a] w (PrP 4 f w) := by
  unfold vR
  obtain ⟨PP, hPP⟩ : ∃ PP, PP = PrP 4 f w := ⟨_, rfl⟩
  rw [← hPP]
  have HP : Hid (∀ x w', x = un.bs (pr 4 f) → Below w.heap.size w w' → PP (.returned (.string x)) w') := Lib.hid (fun x w' h hb => by rw [hPP, h]; exact ⟨rfl, hb⟩)
  clear hPP
  have hm : f.fm.toNat ≤ 255 := by have := UInt8.toNat_lt f.fm; omega
  have hd : dat 4 f = oct.bigL 128 4 f.bd.length ++ un.putL f.bd := by unfold dat; rw [hG, hM, hS]; simp
  have hdl := dat_len 4 f
  have HG := Lib.hid (fun W => Grouped_any 4 f.fm.toNat W hm)
  have HM := Lib.hid (fun W => Measured_any 4 f.fm.toNat W hm)
  have HS := Lib.hid (fun W => Spread_any 4 f.fm.toNat W hm)
  rw [hG] at HG; rw [hM] at HM; rw [hS] at HS
  have HSF : Hid (∀ W, Calls Try.prog 53 #[.int .u64 (f.bd.length : Int)] W fun e w' => e = .returned (.string (un.bs (oct.bigL 128 4 f.bd.length))) ∧ Below W.heap.size W w') := Lib.hid (fun W => oct.refSafe_any f.bd.length W (by omega))
  have HPU : Hid (∀ W, Calls Try.prog 54 #[.string (un.bs f.bd)] W fun e w' => e = .returned (.string (un.bs (un.putL f.bd))) ∧ Below W.heap.size W w') := Lib.hid (fun W => by
    have := un.refPut_any (un.bs f.bd) W (by rw [un.bs_size]; omega)
    rwa [un.bs_list] at this)
  have HN : Hid (∀ W, Calls Try.prog 52 #[.int .u64 ((dat 4 f).length : Int), .int .i64 4] W fun e w' => e = .returned (.string (un.bs (oct.bigL 256 4 (dat 4 f).length))) ∧ Below W.heap.size W w') := Lib.hid (fun W => oct.refBig_any (dat 4 f).length 4 4 W (by omega) (by omega) rfl (by omega))
  have HNS : Hid (∀ W, Calls Try.prog 53 #[.int .u64 ((dat 4 f).length : Int)] W fun e w' => e = .returned (.string (un.bs (oct.bigL 128 4 (dat 4 f).length))) ∧ Below W.heap.size W w') := Lib.hid (fun W => oct.refSafe_any (dat 4 f).length W (by omega))
  have HST : Hid (∀ W, Calls Try.prog 52 #[.int .u64 (f.st.toNat : Int), .int .i64 1] W fun e w' => e = .returned (.string (un.bs [f.st])) ∧ Below W.heap.size W w') := Lib.hid (fun W => by
    have := oct.refBig_any f.st.toNat 1 1 W (by omega) (by omega) rfl (by have := UInt8.toNat_lt f.st; omega)
    rwa [big_one] at this)
  have HFM : Hid (∀ W, Calls Try.prog 52 #[.int .u64 (f.fm.toNat : Int), .int .i64 1] W fun e w' => e = .returned (.string (un.bs [f.fm])) ∧ Below W.heap.size W w') := Lib.hid (fun W => by
    have := oct.refBig_any f.fm.toNat 1 1 W (by omega) (by omega) rfl (by have := UInt8.toNat_lt f.fm; omega)
    rwa [big_one] at this)
  have q0 : (⟨#[]⟩ : ByteArray) ++ un.bs (oct.bigL 128 4 f.bd.length) = un.bs (oct.bigL 128 4 f.bd.length) := by rw [nil_bs, un.bs_app]; rfl
  have q1 : un.bs (oct.bigL 128 4 f.bd.length) ++ un.bs (un.putL f.bd) = un.bs (dat 4 f) := by rw [un.bs_app, hd]
  have qs : (un.bs (dat 4 f)).size = (dat 4 f).length := un.bs_size _
  have qb : (un.bs f.bd).size = f.bd.length := un.bs_size _
  have HV : Hid ((((un.bs f.id ++ un.bs (oct.bigL 128 4 (dat 4 f).length)) ++ un.bs [f.st]) ++ un.bs [f.fm]) ++ un.bs (dat 4 f) = un.bs (pr 4 f)) := Lib.hid (by rw [un.bs_app, un.bs_app, un.bs_app, un.bs_app]; unfold pr siz flg; simp)
  have s0 : (0 : Int) ≤ ((f.st.toNat : Nat) : Int) := by omega
  have s1 : ((f.st.toNat : Nat) : Int) ≤ 255 := by have := UInt8.toNat_lt f.st; omega
  have m0 : (0 : Int) ≤ ((f.fm.toNat : Nat) : Int) := by omega
  have m1 : ((f.fm.toNat : Nat) : Int) ≤ 255 := by omega
  have g0 : (0 : Int) ≤ ((f.gr.toNat : Nat) : Int) := by omega
  have g1 : ((f.gr.toNat : Nat) : Int) ≤ 255 := by have := UInt8.toNat_lt f.gr; omega
  have n1 : (dat 4 f).length ≤ 3000 := by omega
  have pl : (un.putL f.bd).length ≤ 2 * f.bd.length := by rw [un.put_len]; have := un.ext_le f.bd; omega
  have o0 : ¬ 9223372036854775807 < (un.bs (oct.bigL 128 4 f.bd.length)).size + (un.bs (un.putL f.bd)).size := by simp only [un.bs_size, oct.bigL_len]; omega
  have o1 : ¬ 9223372036854775807 < (un.bs f.id).size + (un.bs (oct.bigL 128 4 (dat 4 f).length)).size := by simp only [un.bs_size, oct.bigL_len]; omega
  have o2 : ¬ 9223372036854775807 < (un.bs f.id).size + (un.bs (oct.bigL 128 4 (dat 4 f).length)).size + (un.bs [f.st]).size := by simp only [un.bs_size, List.length_cons, List.length_nil, oct.bigL_len]; omega
  have o3 : ¬ 9223372036854775807 < (un.bs f.id).size + (un.bs (oct.bigL 128 4 (dat 4 f).length)).size + (un.bs [f.st]).size + (un.bs [f.fm]).size := by simp only [un.bs_size, List.length_cons, List.length_nil, oct.bigL_len]; omega
  have o4 : ¬ 9223372036854775807 < (un.bs f.id).size + (un.bs (oct.bigL 128 4 (dat 4 f).length)).size + (un.bs [f.st]).size + (un.bs [f.fm]).size + (un.bs (dat 4 f)).size := by simp only [un.bs_size, List.length_cons, List.length_nil, oct.bigL_len]; omega
  have o5 : ¬ 9223372036854775807 < (un.bs f.bd).size := by simp only [un.bs_size]; omega
  have o6 : ¬ 9223372036854775807 < (un.bs (oct.bigL 128 4 f.bd.length)).size := by simp only [un.bs_size, oct.bigL_len]; omega
  have o7 : ¬ 9223372036854775807 < (un.bs (un.putL f.bd)).size := by simp only [un.bs_size]; omega
  try rw [qs] at o0
  try rw [qb] at o0
  try rw [qs] at o1
  try rw [qb] at o1
  try rw [qs] at o2
  try rw [qb] at o2
  try rw [qs] at o3
  try rw [qb] at o3
  try rw [qs] at o4
  try rw [qb] at o4
  try rw [qs] at o5
  try rw [qb] at o5
  try rw [qs] at o6
  try rw [qb] at o6
  try rw [qs] at o7
  try rw [qb] at o7
  clear pl
  clear hd hdl hG hM hS hm
  generalize un.bs (pr 4 f) = R at *
  generalize un.bs (oct.bigL 256 4 (dat 4 f).length) = Z0 at *
  generalize un.bs (oct.bigL 128 4 (dat 4 f).length) = Z1 at *
  generalize un.bs [f.st] = Z2 at *
  generalize un.bs [f.fm] = Z3 at *
  generalize un.bs (dat 4 f) = D at *
  generalize (dat 4 f).length = n at *
  generalize un.bs (oct.bigL 128 4 f.bd.length) = A0 at *
  generalize un.bs (un.putL f.bd) = X1 at *
  generalize un.bs f.bd = B at *
  generalize f.bd.length = L at *
  generalize un.bs f.id = I at *
  generalize ((f.st.toNat : Nat) : Int) = s at *
  generalize ((f.fm.toNat : Nat) : Int) = m at *
  generalize ((f.gr.toNat : Nat) : Int) = g at *
  have us : IntKind.u64.wrap s = s := by simp [IntKind.wrap, IntKind.bits, IntKind.signed]; omega
  have um : IntKind.u64.wrap m = m := by simp [IntKind.wrap, IntKind.bits, IntKind.signed]; omega
  have ug : IntKind.u64.wrap g = g := by simp [IntKind.wrap, IntKind.bits, IntKind.signed]; omega
  have T0 := Lib.hid (t6_new w 39 (.string I) (.int .i64 s) (.int .i64 m) (.int .i64 g) (.string B) (.int .i64 a))
  obtain ⟨_, y0, y1, y2, y3, y4, y5, _⟩ := T0.out
  go_enter Try.func26, Try.ntmps26
  go_wp2_with (first
    | (go_at_call 11; refine (HG.out _).mono ?_; rintro e1 w1 ⟨rfl, rfl⟩)
    | (go_at_call 13; refine (HM.out _).mono ?_; rintro e1 w1 ⟨rfl, rfl⟩)
    | (go_at_call 15; refine (HS.out _).mono ?_; rintro e1 w1 ⟨rfl, rfl⟩)
    | (go_at_call 53; (with_reducible refine (HNS.out _).mono ?_); rintro e1 w5 ⟨rfl, hb1⟩; have T4 := Lib.hid (T3.out.below hb1); clear hb1; obtain ⟨_, y0, y1, y2, y3, y4, y5, _⟩ := T4.out)
    | (go_at_call 52; (with_reducible refine (HN.out _).mono ?_); rintro e1 w4 ⟨rfl, hb1⟩; have T3 := Lib.hid (T2.out.below hb1); clear hb1; obtain ⟨_, y0, y1, y2, y3, y4, y5, _⟩ := T3.out)
    | (go_at_call 54; (with_reducible refine (HPU.out _).mono ?_); rintro e1 w3 ⟨rfl, hb1⟩; have T2 := Lib.hid (T1.out.below hb1); clear hb1; obtain ⟨_, y0, y1, y2, y3, y4, y5, _⟩ := T2.out)
    | (go_at_call 53; (with_reducible refine (HSF.out _).mono ?_); rintro e1 w2 ⟨rfl, hb1⟩; have T1 := Lib.hid (T0.out.below hb1); clear hb1; obtain ⟨_, y0, y1, y2, y3, y4, y5, _⟩ := T1.out))
  go_region_held3 (fun W => W.cell? ⟨w.heap.size, 0, none⟩ = some (.string I) ∧ W.cell? ⟨w.heap.size, 1, none⟩ = some (.int .i64 s) ∧ W.cell? ⟨w.heap.size, 2, none⟩ = some (.int .i64 m)) (first | exact y0 | exact ⟨y0, y1, y2⟩ | go_keep) (first
    | (go_at_call 52; (with_reducible refine (HFM.out _).mono ?_); rintro e1 w7 ⟨rfl, hb1⟩; have T6 := Lib.hid (T5.out.below hb1); clear hb1; obtain ⟨_, y0, y1, y2, y3, y4, y5, _⟩ := T6.out)
    | (go_at_call 52; (with_reducible refine (HST.out _).mono ?_); rintro e1 w6 ⟨rfl, hb1⟩; have T5 := Lib.hid (T4.out.drew.below hb1); clear hb1; obtain ⟨_, y0, y1, y2, y3, y4, y5, _⟩ := T5.out))
  all_goals go_wp2_with fail
  all_goals exact HP.out _ _ HV.out T6.out.b
set_option maxRecDepth 100000 in
set_option maxHeartbeats 4000000 in
theorem print_4tff (f : Fr) (a : Int) (w : World) (hi : f.id.length ≤ 100) (hb : f.bd.length ≤ 1000) (hG : grpd 4 f.fm.toNat = true) (hM : msrd 4 f.fm.toNat = false) (hS : sprd 4 f.fm.toNat = false) : Calls Try.prog 26 #[.int .i64 4, vR f a] w (PrP 4 f w) := by
  unfold vR
  obtain ⟨PP, hPP⟩ : ∃ PP, PP = PrP 4 f w := ⟨_, rfl⟩
  rw [← hPP]
  have HP : Hid (∀ x w', x = un.bs (pr 4 f) → Below w.heap.size w w' → PP (.returned (.string x)) w') := Lib.hid (fun x w' h hb => by rw [hPP, h]; exact ⟨rfl, hb⟩)
  clear hPP
  have hm : f.fm.toNat ≤ 255 := by have := UInt8.toNat_lt f.fm; omega
  have hd : dat 4 f = [f.gr] ++ f.bd := by unfold dat; rw [hG, hM, hS]; simp
  have hdl := dat_len 4 f
  have HG := Lib.hid (fun W => Grouped_any 4 f.fm.toNat W hm)
  have HM := Lib.hid (fun W => Measured_any 4 f.fm.toNat W hm)
  have HS := Lib.hid (fun W => Spread_any 4 f.fm.toNat W hm)
  rw [hG] at HG; rw [hM] at HM; rw [hS] at HS
  have HGR : Hid (∀ W, Calls Try.prog 52 #[.int .u64 (f.gr.toNat : Int), .int .i64 1] W fun e w' => e = .returned (.string (un.bs [f.gr])) ∧ Below W.heap.size W w') := Lib.hid (fun W => by
    have := oct.refBig_any f.gr.toNat 1 1 W (by omega) (by omega) rfl (by have := UInt8.toNat_lt f.gr; omega)
    rwa [big_one] at this)
  have HN : Hid (∀ W, Calls Try.prog 52 #[.int .u64 ((dat 4 f).length : Int), .int .i64 4] W fun e w' => e = .returned (.string (un.bs (oct.bigL 256 4 (dat 4 f).length))) ∧ Below W.heap.size W w') := Lib.hid (fun W => oct.refBig_any (dat 4 f).length 4 4 W (by omega) (by omega) rfl (by omega))
  have HNS : Hid (∀ W, Calls Try.prog 53 #[.int .u64 ((dat 4 f).length : Int)] W fun e w' => e = .returned (.string (un.bs (oct.bigL 128 4 (dat 4 f).length))) ∧ Below W.heap.size W w') := Lib.hid (fun W => oct.refSafe_any (dat 4 f).length W (by omega))
  have HST : Hid (∀ W, Calls Try.prog 52 #[.int .u64 (f.st.toNat : Int), .int .i64 1] W fun e w' => e = .returned (.string (un.bs [f.st])) ∧ Below W.heap.size W w') := Lib.hid (fun W => by
    have := oct.refBig_any f.st.toNat 1 1 W (by omega) (by omega) rfl (by have := UInt8.toNat_lt f.st; omega)
    rwa [big_one] at this)
  have HFM : Hid (∀ W, Calls Try.prog 52 #[.int .u64 (f.fm.toNat : Int), .int .i64 1] W fun e w' => e = .returned (.string (un.bs [f.fm])) ∧ Below W.heap.size W w') := Lib.hid (fun W => by
    have := oct.refBig_any f.fm.toNat 1 1 W (by omega) (by omega) rfl (by have := UInt8.toNat_lt f.fm; omega)
    rwa [big_one] at this)
  have q0 : (⟨#[]⟩ : ByteArray) ++ un.bs ([f.gr]) = un.bs ([f.gr]) := by rw [nil_bs, un.bs_app]; rfl
  have q1 : un.bs ([f.gr]) ++ un.bs (f.bd) = un.bs (dat 4 f) := by rw [un.bs_app, hd]
  have qs : (un.bs (dat 4 f)).size = (dat 4 f).length := un.bs_size _
  have qb : (un.bs f.bd).size = f.bd.length := un.bs_size _
  have HV : Hid ((((un.bs f.id ++ un.bs (oct.bigL 128 4 (dat 4 f).length)) ++ un.bs [f.st]) ++ un.bs [f.fm]) ++ un.bs (dat 4 f) = un.bs (pr 4 f)) := Lib.hid (by rw [un.bs_app, un.bs_app, un.bs_app, un.bs_app]; unfold pr siz flg; simp)
  have s0 : (0 : Int) ≤ ((f.st.toNat : Nat) : Int) := by omega
  have s1 : ((f.st.toNat : Nat) : Int) ≤ 255 := by have := UInt8.toNat_lt f.st; omega
  have m0 : (0 : Int) ≤ ((f.fm.toNat : Nat) : Int) := by omega
  have m1 : ((f.fm.toNat : Nat) : Int) ≤ 255 := by omega
  have g0 : (0 : Int) ≤ ((f.gr.toNat : Nat) : Int) := by omega
  have g1 : ((f.gr.toNat : Nat) : Int) ≤ 255 := by have := UInt8.toNat_lt f.gr; omega
  have n1 : (dat 4 f).length ≤ 3000 := by omega
  have pl : (un.putL f.bd).length ≤ 2 * f.bd.length := by rw [un.put_len]; have := un.ext_le f.bd; omega
  have o0 : ¬ 9223372036854775807 < (un.bs ([f.gr])).size + (un.bs (f.bd)).size := by simp only [un.bs_size, List.length_cons, List.length_nil]; omega
  have o1 : ¬ 9223372036854775807 < (un.bs f.id).size + (un.bs (oct.bigL 128 4 (dat 4 f).length)).size := by simp only [un.bs_size, oct.bigL_len]; omega
  have o2 : ¬ 9223372036854775807 < (un.bs f.id).size + (un.bs (oct.bigL 128 4 (dat 4 f).length)).size + (un.bs [f.st]).size := by simp only [un.bs_size, List.length_cons, List.length_nil, oct.bigL_len]; omega
  have o3 : ¬ 9223372036854775807 < (un.bs f.id).size + (un.bs (oct.bigL 128 4 (dat 4 f).length)).size + (un.bs [f.st]).size + (un.bs [f.fm]).size := by simp only [un.bs_size, List.length_cons, List.length_nil, oct.bigL_len]; omega
  have o4 : ¬ 9223372036854775807 < (un.bs f.id).size + (un.bs (oct.bigL 128 4 (dat 4 f).length)).size + (un.bs [f.st]).size + (un.bs [f.fm]).size + (un.bs (dat 4 f)).size := by simp only [un.bs_size, List.length_cons, List.length_nil, oct.bigL_len]; omega
  have o5 : ¬ 9223372036854775807 < (un.bs f.bd).size := by simp only [un.bs_size]; omega
  have o6 : ¬ 9223372036854775807 < (un.bs [f.gr]).size := by simp only [un.bs_size, List.length_cons, List.length_nil]; omega
  try rw [qs] at o0
  try rw [qb] at o0
  try rw [qs] at o1
  try rw [qb] at o1
  try rw [qs] at o2
  try rw [qb] at o2
  try rw [qs] at o3
  try rw [qb] at o3
  try rw [qs] at o4
  try rw [qb] at o4
  try rw [qs] at o5
  try rw [qb] at o5
  try rw [qs] at o6
  try rw [qb] at o6
  clear pl
  clear hd hdl hG hM hS hm
  generalize un.bs (pr 4 f) = R at *
  generalize un.bs (oct.bigL 256 4 (dat 4 f).length) = Z0 at *
  generalize un.bs (oct.bigL 128 4 (dat 4 f).length) = Z1 at *
  generalize un.bs [f.st] = Z2 at *
  generalize un.bs [f.fm] = Z3 at *
  generalize un.bs (dat 4 f) = D at *
  generalize (dat 4 f).length = n at *
  generalize un.bs ([f.gr]) = A0 at *
  generalize un.bs f.bd = B at *
  generalize f.bd.length = L at *
  generalize un.bs f.id = I at *
  generalize ((f.st.toNat : Nat) : Int) = s at *
  generalize ((f.fm.toNat : Nat) : Int) = m at *
  generalize ((f.gr.toNat : Nat) : Int) = g at *
  have us : IntKind.u64.wrap s = s := by simp [IntKind.wrap, IntKind.bits, IntKind.signed]; omega
  have um : IntKind.u64.wrap m = m := by simp [IntKind.wrap, IntKind.bits, IntKind.signed]; omega
  have ug : IntKind.u64.wrap g = g := by simp [IntKind.wrap, IntKind.bits, IntKind.signed]; omega
  have T0 := Lib.hid (t6_new w 39 (.string I) (.int .i64 s) (.int .i64 m) (.int .i64 g) (.string B) (.int .i64 a))
  obtain ⟨_, y0, y1, y2, y3, y4, y5, _⟩ := T0.out
  go_enter Try.func26, Try.ntmps26
  go_wp2_with (first
    | (go_at_call 11; refine (HG.out _).mono ?_; rintro e1 w1 ⟨rfl, rfl⟩)
    | (go_at_call 13; refine (HM.out _).mono ?_; rintro e1 w1 ⟨rfl, rfl⟩)
    | (go_at_call 15; refine (HS.out _).mono ?_; rintro e1 w1 ⟨rfl, rfl⟩)
    | (go_at_call 53; (with_reducible refine (HNS.out _).mono ?_); rintro e1 w4 ⟨rfl, hb1⟩; have T3 := Lib.hid (T2.out.below hb1); clear hb1; obtain ⟨_, y0, y1, y2, y3, y4, y5, _⟩ := T3.out)
    | (go_at_call 52; (with_reducible refine (HN.out _).mono ?_); rintro e1 w3 ⟨rfl, hb1⟩; have T2 := Lib.hid (T1.out.below hb1); clear hb1; obtain ⟨_, y0, y1, y2, y3, y4, y5, _⟩ := T2.out)
    | (go_at_call 52; (with_reducible refine (HGR.out _).mono ?_); rintro e1 w2 ⟨rfl, hb1⟩; have T1 := Lib.hid (T0.out.below hb1); clear hb1; obtain ⟨_, y0, y1, y2, y3, y4, y5, _⟩ := T1.out))
  go_region_held3 (fun W => W.cell? ⟨w.heap.size, 0, none⟩ = some (.string I) ∧ W.cell? ⟨w.heap.size, 1, none⟩ = some (.int .i64 s) ∧ W.cell? ⟨w.heap.size, 2, none⟩ = some (.int .i64 m)) (first | exact y0 | exact ⟨y0, y1, y2⟩ | go_keep) (first
    | (go_at_call 52; (with_reducible refine (HFM.out _).mono ?_); rintro e1 w6 ⟨rfl, hb1⟩; have T5 := Lib.hid (T4.out.below hb1); clear hb1; obtain ⟨_, y0, y1, y2, y3, y4, y5, _⟩ := T5.out)
    | (go_at_call 52; (with_reducible refine (HST.out _).mono ?_); rintro e1 w5 ⟨rfl, hb1⟩; have T4 := Lib.hid (T3.out.drew.below hb1); clear hb1; obtain ⟨_, y0, y1, y2, y3, y4, y5, _⟩ := T4.out))
  all_goals go_wp2_with fail
  all_goals exact HP.out _ _ HV.out T5.out.b
set_option maxRecDepth 100000 in
set_option maxHeartbeats 4000000 in
theorem print_4tft (f : Fr) (a : Int) (w : World) (hi : f.id.length ≤ 100) (hb : f.bd.length ≤ 1000) (hG : grpd 4 f.fm.toNat = true) (hM : msrd 4 f.fm.toNat = false) (hS : sprd 4 f.fm.toNat = true) : Calls Try.prog 26 #[.int .i64 4, vR f a] w (PrP 4 f w) := by
  unfold vR
  obtain ⟨PP, hPP⟩ : ∃ PP, PP = PrP 4 f w := ⟨_, rfl⟩
  rw [← hPP]
  have HP : Hid (∀ x w', x = un.bs (pr 4 f) → Below w.heap.size w w' → PP (.returned (.string x)) w') := Lib.hid (fun x w' h hb => by rw [hPP, h]; exact ⟨rfl, hb⟩)
  clear hPP
  have hm : f.fm.toNat ≤ 255 := by have := UInt8.toNat_lt f.fm; omega
  have hd : dat 4 f = [f.gr] ++ un.putL f.bd := by unfold dat; rw [hG, hM, hS]; simp
  have hdl := dat_len 4 f
  have HG := Lib.hid (fun W => Grouped_any 4 f.fm.toNat W hm)
  have HM := Lib.hid (fun W => Measured_any 4 f.fm.toNat W hm)
  have HS := Lib.hid (fun W => Spread_any 4 f.fm.toNat W hm)
  rw [hG] at HG; rw [hM] at HM; rw [hS] at HS
  have HGR : Hid (∀ W, Calls Try.prog 52 #[.int .u64 (f.gr.toNat : Int), .int .i64 1] W fun e w' => e = .returned (.string (un.bs [f.gr])) ∧ Below W.heap.size W w') := Lib.hid (fun W => by
    have := oct.refBig_any f.gr.toNat 1 1 W (by omega) (by omega) rfl (by have := UInt8.toNat_lt f.gr; omega)
    rwa [big_one] at this)
  have HPU : Hid (∀ W, Calls Try.prog 54 #[.string (un.bs f.bd)] W fun e w' => e = .returned (.string (un.bs (un.putL f.bd))) ∧ Below W.heap.size W w') := Lib.hid (fun W => by
    have := un.refPut_any (un.bs f.bd) W (by rw [un.bs_size]; omega)
    rwa [un.bs_list] at this)
  have HN : Hid (∀ W, Calls Try.prog 52 #[.int .u64 ((dat 4 f).length : Int), .int .i64 4] W fun e w' => e = .returned (.string (un.bs (oct.bigL 256 4 (dat 4 f).length))) ∧ Below W.heap.size W w') := Lib.hid (fun W => oct.refBig_any (dat 4 f).length 4 4 W (by omega) (by omega) rfl (by omega))
  have HNS : Hid (∀ W, Calls Try.prog 53 #[.int .u64 ((dat 4 f).length : Int)] W fun e w' => e = .returned (.string (un.bs (oct.bigL 128 4 (dat 4 f).length))) ∧ Below W.heap.size W w') := Lib.hid (fun W => oct.refSafe_any (dat 4 f).length W (by omega))
  have HST : Hid (∀ W, Calls Try.prog 52 #[.int .u64 (f.st.toNat : Int), .int .i64 1] W fun e w' => e = .returned (.string (un.bs [f.st])) ∧ Below W.heap.size W w') := Lib.hid (fun W => by
    have := oct.refBig_any f.st.toNat 1 1 W (by omega) (by omega) rfl (by have := UInt8.toNat_lt f.st; omega)
    rwa [big_one] at this)
  have HFM : Hid (∀ W, Calls Try.prog 52 #[.int .u64 (f.fm.toNat : Int), .int .i64 1] W fun e w' => e = .returned (.string (un.bs [f.fm])) ∧ Below W.heap.size W w') := Lib.hid (fun W => by
    have := oct.refBig_any f.fm.toNat 1 1 W (by omega) (by omega) rfl (by have := UInt8.toNat_lt f.fm; omega)
    rwa [big_one] at this)
  have q0 : (⟨#[]⟩ : ByteArray) ++ un.bs ([f.gr]) = un.bs ([f.gr]) := by rw [nil_bs, un.bs_app]; rfl
  have q1 : un.bs ([f.gr]) ++ un.bs (un.putL f.bd) = un.bs (dat 4 f) := by rw [un.bs_app, hd]
  have qs : (un.bs (dat 4 f)).size = (dat 4 f).length := un.bs_size _
  have qb : (un.bs f.bd).size = f.bd.length := un.bs_size _
  have HV : Hid ((((un.bs f.id ++ un.bs (oct.bigL 128 4 (dat 4 f).length)) ++ un.bs [f.st]) ++ un.bs [f.fm]) ++ un.bs (dat 4 f) = un.bs (pr 4 f)) := Lib.hid (by rw [un.bs_app, un.bs_app, un.bs_app, un.bs_app]; unfold pr siz flg; simp)
  have s0 : (0 : Int) ≤ ((f.st.toNat : Nat) : Int) := by omega
  have s1 : ((f.st.toNat : Nat) : Int) ≤ 255 := by have := UInt8.toNat_lt f.st; omega
  have m0 : (0 : Int) ≤ ((f.fm.toNat : Nat) : Int) := by omega
  have m1 : ((f.fm.toNat : Nat) : Int) ≤ 255 := by omega
  have g0 : (0 : Int) ≤ ((f.gr.toNat : Nat) : Int) := by omega
  have g1 : ((f.gr.toNat : Nat) : Int) ≤ 255 := by have := UInt8.toNat_lt f.gr; omega
  have n1 : (dat 4 f).length ≤ 3000 := by omega
  have pl : (un.putL f.bd).length ≤ 2 * f.bd.length := by rw [un.put_len]; have := un.ext_le f.bd; omega
  have o0 : ¬ 9223372036854775807 < (un.bs ([f.gr])).size + (un.bs (un.putL f.bd)).size := by simp only [un.bs_size, List.length_cons, List.length_nil]; omega
  have o1 : ¬ 9223372036854775807 < (un.bs f.id).size + (un.bs (oct.bigL 128 4 (dat 4 f).length)).size := by simp only [un.bs_size, oct.bigL_len]; omega
  have o2 : ¬ 9223372036854775807 < (un.bs f.id).size + (un.bs (oct.bigL 128 4 (dat 4 f).length)).size + (un.bs [f.st]).size := by simp only [un.bs_size, List.length_cons, List.length_nil, oct.bigL_len]; omega
  have o3 : ¬ 9223372036854775807 < (un.bs f.id).size + (un.bs (oct.bigL 128 4 (dat 4 f).length)).size + (un.bs [f.st]).size + (un.bs [f.fm]).size := by simp only [un.bs_size, List.length_cons, List.length_nil, oct.bigL_len]; omega
  have o4 : ¬ 9223372036854775807 < (un.bs f.id).size + (un.bs (oct.bigL 128 4 (dat 4 f).length)).size + (un.bs [f.st]).size + (un.bs [f.fm]).size + (un.bs (dat 4 f)).size := by simp only [un.bs_size, List.length_cons, List.length_nil, oct.bigL_len]; omega
  have o5 : ¬ 9223372036854775807 < (un.bs f.bd).size := by simp only [un.bs_size]; omega
  have o6 : ¬ 9223372036854775807 < (un.bs [f.gr]).size := by simp only [un.bs_size, List.length_cons, List.length_nil]; omega
  have o7 : ¬ 9223372036854775807 < (un.bs (un.putL f.bd)).size := by simp only [un.bs_size]; omega
  try rw [qs] at o0
  try rw [qb] at o0
  try rw [qs] at o1
  try rw [qb] at o1
  try rw [qs] at o2
  try rw [qb] at o2
  try rw [qs] at o3
  try rw [qb] at o3
  try rw [qs] at o4
  try rw [qb] at o4
  try rw [qs] at o5
  try rw [qb] at o5
  try rw [qs] at o6
  try rw [qb] at o6
  try rw [qs] at o7
  try rw [qb] at o7
  clear pl
  clear hd hdl hG hM hS hm
  generalize un.bs (pr 4 f) = R at *
  generalize un.bs (oct.bigL 256 4 (dat 4 f).length) = Z0 at *
  generalize un.bs (oct.bigL 128 4 (dat 4 f).length) = Z1 at *
  generalize un.bs [f.st] = Z2 at *
  generalize un.bs [f.fm] = Z3 at *
  generalize un.bs (dat 4 f) = D at *
  generalize (dat 4 f).length = n at *
  generalize un.bs ([f.gr]) = A0 at *
  generalize un.bs (un.putL f.bd) = X1 at *
  generalize un.bs f.bd = B at *
  generalize f.bd.length = L at *
  generalize un.bs f.id = I at *
  generalize ((f.st.toNat : Nat) : Int) = s at *
  generalize ((f.fm.toNat : Nat) : Int) = m at *
  generalize ((f.gr.toNat : Nat) : Int) = g at *
  have us : IntKind.u64.wrap s = s := by simp [IntKind.wrap, IntKind.bits, IntKind.signed]; omega
  have um : IntKind.u64.wrap m = m := by simp [IntKind.wrap, IntKind.bits, IntKind.signed]; omega
  have ug : IntKind.u64.wrap g = g := by simp [IntKind.wrap, IntKind.bits, IntKind.signed]; omega
  have T0 := Lib.hid (t6_new w 39 (.string I) (.int .i64 s) (.int .i64 m) (.int .i64 g) (.string B) (.int .i64 a))
  obtain ⟨_, y0, y1, y2, y3, y4, y5, _⟩ := T0.out
  go_enter Try.func26, Try.ntmps26
  go_wp2_with (first
    | (go_at_call 11; refine (HG.out _).mono ?_; rintro e1 w1 ⟨rfl, rfl⟩)
    | (go_at_call 13; refine (HM.out _).mono ?_; rintro e1 w1 ⟨rfl, rfl⟩)
    | (go_at_call 15; refine (HS.out _).mono ?_; rintro e1 w1 ⟨rfl, rfl⟩)
    | (go_at_call 53; (with_reducible refine (HNS.out _).mono ?_); rintro e1 w5 ⟨rfl, hb1⟩; have T4 := Lib.hid (T3.out.below hb1); clear hb1; obtain ⟨_, y0, y1, y2, y3, y4, y5, _⟩ := T4.out)
    | (go_at_call 52; (with_reducible refine (HN.out _).mono ?_); rintro e1 w4 ⟨rfl, hb1⟩; have T3 := Lib.hid (T2.out.below hb1); clear hb1; obtain ⟨_, y0, y1, y2, y3, y4, y5, _⟩ := T3.out)
    | (go_at_call 54; (with_reducible refine (HPU.out _).mono ?_); rintro e1 w3 ⟨rfl, hb1⟩; have T2 := Lib.hid (T1.out.below hb1); clear hb1; obtain ⟨_, y0, y1, y2, y3, y4, y5, _⟩ := T2.out)
    | (go_at_call 52; (with_reducible refine (HGR.out _).mono ?_); rintro e1 w2 ⟨rfl, hb1⟩; have T1 := Lib.hid (T0.out.below hb1); clear hb1; obtain ⟨_, y0, y1, y2, y3, y4, y5, _⟩ := T1.out))
  go_region_held3 (fun W => W.cell? ⟨w.heap.size, 0, none⟩ = some (.string I) ∧ W.cell? ⟨w.heap.size, 1, none⟩ = some (.int .i64 s) ∧ W.cell? ⟨w.heap.size, 2, none⟩ = some (.int .i64 m)) (first | exact y0 | exact ⟨y0, y1, y2⟩ | go_keep) (first
    | (go_at_call 52; (with_reducible refine (HFM.out _).mono ?_); rintro e1 w7 ⟨rfl, hb1⟩; have T6 := Lib.hid (T5.out.below hb1); clear hb1; obtain ⟨_, y0, y1, y2, y3, y4, y5, _⟩ := T6.out)
    | (go_at_call 52; (with_reducible refine (HST.out _).mono ?_); rintro e1 w6 ⟨rfl, hb1⟩; have T5 := Lib.hid (T4.out.drew.below hb1); clear hb1; obtain ⟨_, y0, y1, y2, y3, y4, y5, _⟩ := T5.out))
  all_goals go_wp2_with fail
  all_goals exact HP.out _ _ HV.out T6.out.b
set_option maxRecDepth 100000 in
set_option maxHeartbeats 4000000 in
theorem print_4ttf (f : Fr) (a : Int) (w : World) (hi : f.id.length ≤ 100) (hb : f.bd.length ≤ 1000) (hG : grpd 4 f.fm.toNat = true) (hM : msrd 4 f.fm.toNat = true) (hS : sprd 4 f.fm.toNat = false) : Calls Try.prog 26 #[.int .i64 4, vR f a] w (PrP 4 f w) := by
  unfold vR
  obtain ⟨PP, hPP⟩ : ∃ PP, PP = PrP 4 f w := ⟨_, rfl⟩
  rw [← hPP]
  have HP : Hid (∀ x w', x = un.bs (pr 4 f) → Below w.heap.size w w' → PP (.returned (.string x)) w') := Lib.hid (fun x w' h hb => by rw [hPP, h]; exact ⟨rfl, hb⟩)
  clear hPP
  have hm : f.fm.toNat ≤ 255 := by have := UInt8.toNat_lt f.fm; omega
  have hd : dat 4 f = [f.gr] ++ (oct.bigL 128 4 f.bd.length ++ f.bd) := by unfold dat; rw [hG, hM, hS]; simp
  have hdl := dat_len 4 f
  have HG := Lib.hid (fun W => Grouped_any 4 f.fm.toNat W hm)
  have HM := Lib.hid (fun W => Measured_any 4 f.fm.toNat W hm)
  have HS := Lib.hid (fun W => Spread_any 4 f.fm.toNat W hm)
  rw [hG] at HG; rw [hM] at HM; rw [hS] at HS
  have HGR : Hid (∀ W, Calls Try.prog 52 #[.int .u64 (f.gr.toNat : Int), .int .i64 1] W fun e w' => e = .returned (.string (un.bs [f.gr])) ∧ Below W.heap.size W w') := Lib.hid (fun W => by
    have := oct.refBig_any f.gr.toNat 1 1 W (by omega) (by omega) rfl (by have := UInt8.toNat_lt f.gr; omega)
    rwa [big_one] at this)
  have HSF : Hid (∀ W, Calls Try.prog 53 #[.int .u64 (f.bd.length : Int)] W fun e w' => e = .returned (.string (un.bs (oct.bigL 128 4 f.bd.length))) ∧ Below W.heap.size W w') := Lib.hid (fun W => oct.refSafe_any f.bd.length W (by omega))
  have HN : Hid (∀ W, Calls Try.prog 52 #[.int .u64 ((dat 4 f).length : Int), .int .i64 4] W fun e w' => e = .returned (.string (un.bs (oct.bigL 256 4 (dat 4 f).length))) ∧ Below W.heap.size W w') := Lib.hid (fun W => oct.refBig_any (dat 4 f).length 4 4 W (by omega) (by omega) rfl (by omega))
  have HNS : Hid (∀ W, Calls Try.prog 53 #[.int .u64 ((dat 4 f).length : Int)] W fun e w' => e = .returned (.string (un.bs (oct.bigL 128 4 (dat 4 f).length))) ∧ Below W.heap.size W w') := Lib.hid (fun W => oct.refSafe_any (dat 4 f).length W (by omega))
  have HST : Hid (∀ W, Calls Try.prog 52 #[.int .u64 (f.st.toNat : Int), .int .i64 1] W fun e w' => e = .returned (.string (un.bs [f.st])) ∧ Below W.heap.size W w') := Lib.hid (fun W => by
    have := oct.refBig_any f.st.toNat 1 1 W (by omega) (by omega) rfl (by have := UInt8.toNat_lt f.st; omega)
    rwa [big_one] at this)
  have HFM : Hid (∀ W, Calls Try.prog 52 #[.int .u64 (f.fm.toNat : Int), .int .i64 1] W fun e w' => e = .returned (.string (un.bs [f.fm])) ∧ Below W.heap.size W w') := Lib.hid (fun W => by
    have := oct.refBig_any f.fm.toNat 1 1 W (by omega) (by omega) rfl (by have := UInt8.toNat_lt f.fm; omega)
    rwa [big_one] at this)
  have q0 : (⟨#[]⟩ : ByteArray) ++ un.bs ([f.gr]) = un.bs ([f.gr]) := by rw [nil_bs, un.bs_app]; rfl
  have q1 : un.bs ([f.gr]) ++ un.bs (oct.bigL 128 4 f.bd.length) = un.bs (([f.gr]) ++ oct.bigL 128 4 f.bd.length) := by rw [un.bs_app]
  have q2 : un.bs (([f.gr]) ++ oct.bigL 128 4 f.bd.length) ++ un.bs (f.bd) = un.bs (dat 4 f) := by rw [un.bs_app, hd]; simp
  have qs : (un.bs (dat 4 f)).size = (dat 4 f).length := un.bs_size _
  have qb : (un.bs f.bd).size = f.bd.length := un.bs_size _
  have HV : Hid ((((un.bs f.id ++ un.bs (oct.bigL 128 4 (dat 4 f).length)) ++ un.bs [f.st]) ++ un.bs [f.fm]) ++ un.bs (dat 4 f) = un.bs (pr 4 f)) := Lib.hid (by rw [un.bs_app, un.bs_app, un.bs_app, un.bs_app]; unfold pr siz flg; simp)
  have s0 : (0 : Int) ≤ ((f.st.toNat : Nat) : Int) := by omega
  have s1 : ((f.st.toNat : Nat) : Int) ≤ 255 := by have := UInt8.toNat_lt f.st; omega
  have m0 : (0 : Int) ≤ ((f.fm.toNat : Nat) : Int) := by omega
  have m1 : ((f.fm.toNat : Nat) : Int) ≤ 255 := by omega
  have g0 : (0 : Int) ≤ ((f.gr.toNat : Nat) : Int) := by omega
  have g1 : ((f.gr.toNat : Nat) : Int) ≤ 255 := by have := UInt8.toNat_lt f.gr; omega
  have n1 : (dat 4 f).length ≤ 3000 := by omega
  have pl : (un.putL f.bd).length ≤ 2 * f.bd.length := by rw [un.put_len]; have := un.ext_le f.bd; omega
  have o0 : ¬ 9223372036854775807 < (un.bs ([f.gr])).size + (un.bs (oct.bigL 128 4 f.bd.length)).size := by simp only [un.bs_size, List.length_cons, List.length_nil, oct.bigL_len]; omega
  have o1 : ¬ 9223372036854775807 < (un.bs (([f.gr]) ++ oct.bigL 128 4 f.bd.length)).size + (un.bs (f.bd)).size := by simp only [un.bs_size, List.length_append, List.length_cons, List.length_nil, oct.bigL_len]; omega
  have o2 : ¬ 9223372036854775807 < (un.bs f.id).size + (un.bs (oct.bigL 128 4 (dat 4 f).length)).size := by simp only [un.bs_size, oct.bigL_len]; omega
  have o3 : ¬ 9223372036854775807 < (un.bs f.id).size + (un.bs (oct.bigL 128 4 (dat 4 f).length)).size + (un.bs [f.st]).size := by simp only [un.bs_size, List.length_cons, List.length_nil, oct.bigL_len]; omega
  have o4 : ¬ 9223372036854775807 < (un.bs f.id).size + (un.bs (oct.bigL 128 4 (dat 4 f).length)).size + (un.bs [f.st]).size + (un.bs [f.fm]).size := by simp only [un.bs_size, List.length_cons, List.length_nil, oct.bigL_len]; omega
  have o5 : ¬ 9223372036854775807 < (un.bs f.id).size + (un.bs (oct.bigL 128 4 (dat 4 f).length)).size + (un.bs [f.st]).size + (un.bs [f.fm]).size + (un.bs (dat 4 f)).size := by simp only [un.bs_size, List.length_cons, List.length_nil, oct.bigL_len]; omega
  have o6 : ¬ 9223372036854775807 < (un.bs f.bd).size := by simp only [un.bs_size]; omega
  have o7 : ¬ 9223372036854775807 < (un.bs [f.gr]).size := by simp only [un.bs_size, List.length_cons, List.length_nil]; omega
  have o8 : ¬ 9223372036854775807 < (un.bs (oct.bigL 128 4 f.bd.length)).size := by simp only [un.bs_size, oct.bigL_len]; omega
  try rw [qs] at o0
  try rw [qb] at o0
  try rw [qs] at o1
  try rw [qb] at o1
  try rw [qs] at o2
  try rw [qb] at o2
  try rw [qs] at o3
  try rw [qb] at o3
  try rw [qs] at o4
  try rw [qb] at o4
  try rw [qs] at o5
  try rw [qb] at o5
  try rw [qs] at o6
  try rw [qb] at o6
  try rw [qs] at o7
  try rw [qb] at o7
  try rw [qs] at o8
  try rw [qb] at o8
  clear pl
  clear hd hdl hG hM hS hm
  generalize un.bs (pr 4 f) = R at *
  generalize un.bs (oct.bigL 256 4 (dat 4 f).length) = Z0 at *
  generalize un.bs (oct.bigL 128 4 (dat 4 f).length) = Z1 at *
  generalize un.bs [f.st] = Z2 at *
  generalize un.bs [f.fm] = Z3 at *
  generalize un.bs (dat 4 f) = D at *
  generalize (dat 4 f).length = n at *
  generalize un.bs (([f.gr]) ++ oct.bigL 128 4 f.bd.length) = A1 at *
  generalize un.bs ([f.gr]) = A0 at *
  generalize un.bs (oct.bigL 128 4 f.bd.length) = X1 at *
  generalize un.bs f.bd = B at *
  generalize f.bd.length = L at *
  generalize un.bs f.id = I at *
  generalize ((f.st.toNat : Nat) : Int) = s at *
  generalize ((f.fm.toNat : Nat) : Int) = m at *
  generalize ((f.gr.toNat : Nat) : Int) = g at *
  have us : IntKind.u64.wrap s = s := by simp [IntKind.wrap, IntKind.bits, IntKind.signed]; omega
  have um : IntKind.u64.wrap m = m := by simp [IntKind.wrap, IntKind.bits, IntKind.signed]; omega
  have ug : IntKind.u64.wrap g = g := by simp [IntKind.wrap, IntKind.bits, IntKind.signed]; omega
  have T0 := Lib.hid (t6_new w 39 (.string I) (.int .i64 s) (.int .i64 m) (.int .i64 g) (.string B) (.int .i64 a))
  obtain ⟨_, y0, y1, y2, y3, y4, y5, _⟩ := T0.out
  go_enter Try.func26, Try.ntmps26
  go_wp2_with (first
    | (go_at_call 11; refine (HG.out _).mono ?_; rintro e1 w1 ⟨rfl, rfl⟩)
    | (go_at_call 13; refine (HM.out _).mono ?_; rintro e1 w1 ⟨rfl, rfl⟩)
    | (go_at_call 15; refine (HS.out _).mono ?_; rintro e1 w1 ⟨rfl, rfl⟩)
    | (go_at_call 53; (with_reducible refine (HNS.out _).mono ?_); rintro e1 w5 ⟨rfl, hb1⟩; have T4 := Lib.hid (T3.out.below hb1); clear hb1; obtain ⟨_, y0, y1, y2, y3, y4, y5, _⟩ := T4.out)
    | (go_at_call 52; (with_reducible refine (HN.out _).mono ?_); rintro e1 w4 ⟨rfl, hb1⟩; have T3 := Lib.hid (T2.out.below hb1); clear hb1; obtain ⟨_, y0, y1, y2, y3, y4, y5, _⟩ := T3.out)
    | (go_at_call 53; (with_reducible refine (HSF.out _).mono ?_); rintro e1 w3 ⟨rfl, hb1⟩; have T2 := Lib.hid (T1.out.below hb1); clear hb1; obtain ⟨_, y0, y1, y2, y3, y4, y5, _⟩ := T2.out)
    | (go_at_call 52; (with_reducible refine (HGR.out _).mono ?_); rintro e1 w2 ⟨rfl, hb1⟩; have T1 := Lib.hid (T0.out.below hb1); clear hb1; obtain ⟨_, y0, y1, y2, y3, y4, y5, _⟩ := T1.out))
  go_region_held3 (fun W => W.cell? ⟨w.heap.size, 0, none⟩ = some (.string I) ∧ W.cell? ⟨w.heap.size, 1, none⟩ = some (.int .i64 s) ∧ W.cell? ⟨w.heap.size, 2, none⟩ = some (.int .i64 m)) (first | exact y0 | exact ⟨y0, y1, y2⟩ | go_keep) (first
    | (go_at_call 52; (with_reducible refine (HFM.out _).mono ?_); rintro e1 w7 ⟨rfl, hb1⟩; have T6 := Lib.hid (T5.out.below hb1); clear hb1; obtain ⟨_, y0, y1, y2, y3, y4, y5, _⟩ := T6.out)
    | (go_at_call 52; (with_reducible refine (HST.out _).mono ?_); rintro e1 w6 ⟨rfl, hb1⟩; have T5 := Lib.hid (T4.out.drew.below hb1); clear hb1; obtain ⟨_, y0, y1, y2, y3, y4, y5, _⟩ := T5.out))
  all_goals go_wp2_with fail
  all_goals exact HP.out _ _ HV.out T6.out.b
set_option maxRecDepth 100000 in
set_option maxHeartbeats 4000000 in
theorem print_4ttt (f : Fr) (a : Int) (w : World) (hi : f.id.length ≤ 100) (hb : f.bd.length ≤ 1000) (hG : grpd 4 f.fm.toNat = true) (hM : msrd 4 f.fm.toNat = true) (hS : sprd 4 f.fm.toNat = true) : Calls Try.prog 26 #[.int .i64 4, vR f a] w (PrP 4 f w) := by
  unfold vR
  obtain ⟨PP, hPP⟩ : ∃ PP, PP = PrP 4 f w := ⟨_, rfl⟩
  rw [← hPP]
  have HP : Hid (∀ x w', x = un.bs (pr 4 f) → Below w.heap.size w w' → PP (.returned (.string x)) w') := Lib.hid (fun x w' h hb => by rw [hPP, h]; exact ⟨rfl, hb⟩)
  clear hPP
  have hm : f.fm.toNat ≤ 255 := by have := UInt8.toNat_lt f.fm; omega
  have hd : dat 4 f = [f.gr] ++ (oct.bigL 128 4 f.bd.length ++ un.putL f.bd) := by unfold dat; rw [hG, hM, hS]; simp
  have hdl := dat_len 4 f
  have HG := Lib.hid (fun W => Grouped_any 4 f.fm.toNat W hm)
  have HM := Lib.hid (fun W => Measured_any 4 f.fm.toNat W hm)
  have HS := Lib.hid (fun W => Spread_any 4 f.fm.toNat W hm)
  rw [hG] at HG; rw [hM] at HM; rw [hS] at HS
  have HGR : Hid (∀ W, Calls Try.prog 52 #[.int .u64 (f.gr.toNat : Int), .int .i64 1] W fun e w' => e = .returned (.string (un.bs [f.gr])) ∧ Below W.heap.size W w') := Lib.hid (fun W => by
    have := oct.refBig_any f.gr.toNat 1 1 W (by omega) (by omega) rfl (by have := UInt8.toNat_lt f.gr; omega)
    rwa [big_one] at this)
  have HSF : Hid (∀ W, Calls Try.prog 53 #[.int .u64 (f.bd.length : Int)] W fun e w' => e = .returned (.string (un.bs (oct.bigL 128 4 f.bd.length))) ∧ Below W.heap.size W w') := Lib.hid (fun W => oct.refSafe_any f.bd.length W (by omega))
  have HPU : Hid (∀ W, Calls Try.prog 54 #[.string (un.bs f.bd)] W fun e w' => e = .returned (.string (un.bs (un.putL f.bd))) ∧ Below W.heap.size W w') := Lib.hid (fun W => by
    have := un.refPut_any (un.bs f.bd) W (by rw [un.bs_size]; omega)
    rwa [un.bs_list] at this)
  have HN : Hid (∀ W, Calls Try.prog 52 #[.int .u64 ((dat 4 f).length : Int), .int .i64 4] W fun e w' => e = .returned (.string (un.bs (oct.bigL 256 4 (dat 4 f).length))) ∧ Below W.heap.size W w') := Lib.hid (fun W => oct.refBig_any (dat 4 f).length 4 4 W (by omega) (by omega) rfl (by omega))
  have HNS : Hid (∀ W, Calls Try.prog 53 #[.int .u64 ((dat 4 f).length : Int)] W fun e w' => e = .returned (.string (un.bs (oct.bigL 128 4 (dat 4 f).length))) ∧ Below W.heap.size W w') := Lib.hid (fun W => oct.refSafe_any (dat 4 f).length W (by omega))
  have HST : Hid (∀ W, Calls Try.prog 52 #[.int .u64 (f.st.toNat : Int), .int .i64 1] W fun e w' => e = .returned (.string (un.bs [f.st])) ∧ Below W.heap.size W w') := Lib.hid (fun W => by
    have := oct.refBig_any f.st.toNat 1 1 W (by omega) (by omega) rfl (by have := UInt8.toNat_lt f.st; omega)
    rwa [big_one] at this)
  have HFM : Hid (∀ W, Calls Try.prog 52 #[.int .u64 (f.fm.toNat : Int), .int .i64 1] W fun e w' => e = .returned (.string (un.bs [f.fm])) ∧ Below W.heap.size W w') := Lib.hid (fun W => by
    have := oct.refBig_any f.fm.toNat 1 1 W (by omega) (by omega) rfl (by have := UInt8.toNat_lt f.fm; omega)
    rwa [big_one] at this)
  have q0 : (⟨#[]⟩ : ByteArray) ++ un.bs ([f.gr]) = un.bs ([f.gr]) := by rw [nil_bs, un.bs_app]; rfl
  have q1 : un.bs ([f.gr]) ++ un.bs (oct.bigL 128 4 f.bd.length) = un.bs (([f.gr]) ++ oct.bigL 128 4 f.bd.length) := by rw [un.bs_app]
  have q2 : un.bs (([f.gr]) ++ oct.bigL 128 4 f.bd.length) ++ un.bs (un.putL f.bd) = un.bs (dat 4 f) := by rw [un.bs_app, hd]; simp
  have qs : (un.bs (dat 4 f)).size = (dat 4 f).length := un.bs_size _
  have qb : (un.bs f.bd).size = f.bd.length := un.bs_size _
  have HV : Hid ((((un.bs f.id ++ un.bs (oct.bigL 128 4 (dat 4 f).length)) ++ un.bs [f.st]) ++ un.bs [f.fm]) ++ un.bs (dat 4 f) = un.bs (pr 4 f)) := Lib.hid (by rw [un.bs_app, un.bs_app, un.bs_app, un.bs_app]; unfold pr siz flg; simp)
  have s0 : (0 : Int) ≤ ((f.st.toNat : Nat) : Int) := by omega
  have s1 : ((f.st.toNat : Nat) : Int) ≤ 255 := by have := UInt8.toNat_lt f.st; omega
  have m0 : (0 : Int) ≤ ((f.fm.toNat : Nat) : Int) := by omega
  have m1 : ((f.fm.toNat : Nat) : Int) ≤ 255 := by omega
  have g0 : (0 : Int) ≤ ((f.gr.toNat : Nat) : Int) := by omega
  have g1 : ((f.gr.toNat : Nat) : Int) ≤ 255 := by have := UInt8.toNat_lt f.gr; omega
  have n1 : (dat 4 f).length ≤ 3000 := by omega
  have pl : (un.putL f.bd).length ≤ 2 * f.bd.length := by rw [un.put_len]; have := un.ext_le f.bd; omega
  have o0 : ¬ 9223372036854775807 < (un.bs ([f.gr])).size + (un.bs (oct.bigL 128 4 f.bd.length)).size := by simp only [un.bs_size, List.length_cons, List.length_nil, oct.bigL_len]; omega
  have o1 : ¬ 9223372036854775807 < (un.bs (([f.gr]) ++ oct.bigL 128 4 f.bd.length)).size + (un.bs (un.putL f.bd)).size := by simp only [un.bs_size, List.length_append, List.length_cons, List.length_nil, oct.bigL_len]; omega
  have o2 : ¬ 9223372036854775807 < (un.bs f.id).size + (un.bs (oct.bigL 128 4 (dat 4 f).length)).size := by simp only [un.bs_size, oct.bigL_len]; omega
  have o3 : ¬ 9223372036854775807 < (un.bs f.id).size + (un.bs (oct.bigL 128 4 (dat 4 f).length)).size + (un.bs [f.st]).size := by simp only [un.bs_size, List.length_cons, List.length_nil, oct.bigL_len]; omega
  have o4 : ¬ 9223372036854775807 < (un.bs f.id).size + (un.bs (oct.bigL 128 4 (dat 4 f).length)).size + (un.bs [f.st]).size + (un.bs [f.fm]).size := by simp only [un.bs_size, List.length_cons, List.length_nil, oct.bigL_len]; omega
  have o5 : ¬ 9223372036854775807 < (un.bs f.id).size + (un.bs (oct.bigL 128 4 (dat 4 f).length)).size + (un.bs [f.st]).size + (un.bs [f.fm]).size + (un.bs (dat 4 f)).size := by simp only [un.bs_size, List.length_cons, List.length_nil, oct.bigL_len]; omega
  have o6 : ¬ 9223372036854775807 < (un.bs f.bd).size := by simp only [un.bs_size]; omega
  have o7 : ¬ 9223372036854775807 < (un.bs [f.gr]).size := by simp only [un.bs_size, List.length_cons, List.length_nil]; omega
  have o8 : ¬ 9223372036854775807 < (un.bs (oct.bigL 128 4 f.bd.length)).size := by simp only [un.bs_size, oct.bigL_len]; omega
  have o9 : ¬ 9223372036854775807 < (un.bs (un.putL f.bd)).size := by simp only [un.bs_size]; omega
  try rw [qs] at o0
  try rw [qb] at o0
  try rw [qs] at o1
  try rw [qb] at o1
  try rw [qs] at o2
  try rw [qb] at o2
  try rw [qs] at o3
  try rw [qb] at o3
  try rw [qs] at o4
  try rw [qb] at o4
  try rw [qs] at o5
  try rw [qb] at o5
  try rw [qs] at o6
  try rw [qb] at o6
  try rw [qs] at o7
  try rw [qb] at o7
  try rw [qs] at o8
  try rw [qb] at o8
  try rw [qs] at o9
  try rw [qb] at o9
  clear pl
  clear hd hdl hG hM hS hm
  generalize un.bs (pr 4 f) = R at *
  generalize un.bs (oct.bigL 256 4 (dat 4 f).length) = Z0 at *
  generalize un.bs (oct.bigL 128 4 (dat 4 f).length) = Z1 at *
  generalize un.bs [f.st] = Z2 at *
  generalize un.bs [f.fm] = Z3 at *
  generalize un.bs (dat 4 f) = D at *
  generalize (dat 4 f).length = n at *
  generalize un.bs (([f.gr]) ++ oct.bigL 128 4 f.bd.length) = A1 at *
  generalize un.bs ([f.gr]) = A0 at *
  generalize un.bs (oct.bigL 128 4 f.bd.length) = X1 at *
  generalize un.bs (un.putL f.bd) = X2 at *
  generalize un.bs f.bd = B at *
  generalize f.bd.length = L at *
  generalize un.bs f.id = I at *
  generalize ((f.st.toNat : Nat) : Int) = s at *
  generalize ((f.fm.toNat : Nat) : Int) = m at *
  generalize ((f.gr.toNat : Nat) : Int) = g at *
  have us : IntKind.u64.wrap s = s := by simp [IntKind.wrap, IntKind.bits, IntKind.signed]; omega
  have um : IntKind.u64.wrap m = m := by simp [IntKind.wrap, IntKind.bits, IntKind.signed]; omega
  have ug : IntKind.u64.wrap g = g := by simp [IntKind.wrap, IntKind.bits, IntKind.signed]; omega
  have T0 := Lib.hid (t6_new w 39 (.string I) (.int .i64 s) (.int .i64 m) (.int .i64 g) (.string B) (.int .i64 a))
  obtain ⟨_, y0, y1, y2, y3, y4, y5, _⟩ := T0.out
  go_enter Try.func26, Try.ntmps26
  go_wp2_with (first
    | (go_at_call 11; refine (HG.out _).mono ?_; rintro e1 w1 ⟨rfl, rfl⟩)
    | (go_at_call 13; refine (HM.out _).mono ?_; rintro e1 w1 ⟨rfl, rfl⟩)
    | (go_at_call 15; refine (HS.out _).mono ?_; rintro e1 w1 ⟨rfl, rfl⟩)
    | (go_at_call 53; (with_reducible refine (HNS.out _).mono ?_); rintro e1 w6 ⟨rfl, hb1⟩; have T5 := Lib.hid (T4.out.below hb1); clear hb1; obtain ⟨_, y0, y1, y2, y3, y4, y5, _⟩ := T5.out)
    | (go_at_call 52; (with_reducible refine (HN.out _).mono ?_); rintro e1 w5 ⟨rfl, hb1⟩; have T4 := Lib.hid (T3.out.below hb1); clear hb1; obtain ⟨_, y0, y1, y2, y3, y4, y5, _⟩ := T4.out)
    | (go_at_call 54; (with_reducible refine (HPU.out _).mono ?_); rintro e1 w4 ⟨rfl, hb1⟩; have T3 := Lib.hid (T2.out.below hb1); clear hb1; obtain ⟨_, y0, y1, y2, y3, y4, y5, _⟩ := T3.out)
    | (go_at_call 53; (with_reducible refine (HSF.out _).mono ?_); rintro e1 w3 ⟨rfl, hb1⟩; have T2 := Lib.hid (T1.out.below hb1); clear hb1; obtain ⟨_, y0, y1, y2, y3, y4, y5, _⟩ := T2.out)
    | (go_at_call 52; (with_reducible refine (HGR.out _).mono ?_); rintro e1 w2 ⟨rfl, hb1⟩; have T1 := Lib.hid (T0.out.below hb1); clear hb1; obtain ⟨_, y0, y1, y2, y3, y4, y5, _⟩ := T1.out))
  go_region_held3 (fun W => W.cell? ⟨w.heap.size, 0, none⟩ = some (.string I) ∧ W.cell? ⟨w.heap.size, 1, none⟩ = some (.int .i64 s) ∧ W.cell? ⟨w.heap.size, 2, none⟩ = some (.int .i64 m)) (first | exact y0 | exact ⟨y0, y1, y2⟩ | go_keep) (first
    | (go_at_call 52; (with_reducible refine (HFM.out _).mono ?_); rintro e1 w8 ⟨rfl, hb1⟩; have T7 := Lib.hid (T6.out.below hb1); clear hb1; obtain ⟨_, y0, y1, y2, y3, y4, y5, _⟩ := T7.out)
    | (go_at_call 52; (with_reducible refine (HST.out _).mono ?_); rintro e1 w7 ⟨rfl, hb1⟩; have T6 := Lib.hid (T5.out.drew.below hb1); clear hb1; obtain ⟨_, y0, y1, y2, y3, y4, y5, _⟩ := T6.out))
  all_goals go_wp2_with fail
  all_goals exact HP.out _ _ HV.out T7.out.b
theorem Print_any (v : Int) (f : Fr) (a : Int) (w : World) (hi : f.id.length ≤ 100) (hb : f.bd.length ≤ 1000) (hv : v = 2 ∨ v = 3 ∨ v = 4) : Calls Try.prog 26 #[.int .i64 v, vR f a] w (PrP v f w) := by
  rcases hv with rfl | rfl | rfl
  · exact print_2fff f a w hi hb
  · cases hG : grpd 3 f.fm.toNat with
    | false => exact print_3fff f a w hi hb hG
    | true => exact print_3tff f a w hi hb hG
  · cases hG : grpd 4 f.fm.toNat <;> cases hM : msrd 4 f.fm.toNat <;> cases hS : sprd 4 f.fm.toNat
    · exact print_4fff f a w hi hb hG hM hS
    · exact print_4fft f a w hi hb hG hM hS
    · exact print_4ftf f a w hi hb hG hM hS
    · exact print_4ftt f a w hi hb hG hM hS
    · exact print_4tff f a w hi hb hG hM hS
    · exact print_4tft f a w hi hb hG hM hS
    · exact print_4ttf f a w hi hb hG hM hS
    · exact print_4ttt f a w hi hb hG hM hS
end Go.Proofs.Ytkhajafjieofhaa.fn
