/- Layer 12: the walk of TailSplits. -/
import Derived.Test.YtidlkkhmmgkicaaTa6
namespace Go.Proofs.Ytidlkkhmmgkicaa.ta
open Go.RowKit Go.Lib
open Go.Proofs.Ytidlkkhmmgkicaa.un (bs bs_list bs_size bs_app bs_back size_list bt wrap64 data_app Kb Kb.below)
set_option linter.unusedVariables false
set_option maxRecDepth 100000 in
set_option maxHeartbeats 8000000 in
theorem splits_walk {K : World → Prop} (L : Tl K) (HA : ∀ w, K w → Calls Try.prog 17 #[] w fun e w' => e = .returned (.bool true) ∧ Below w.heap.size w w') (s a b c d e : ByteArray) (tr g : Nat) (w : World) (hK : K w) (ht : tr < 256) (hg : g < 256) (hs : s.size ≤ maxLen) (ha : a.size ≤ maxLen) (hb : b.size ≤ maxLen) (hc : c.size ≤ maxLen) (hd : d.size ≤ maxLen) (he : e.size ≤ maxLen) : Calls Try.prog 8 #[.string s, tlV a b c d e tr g] w fun e w' => e = .returned (.bool true) ∧ Below w.heap.size w w' := by
  have HAW := Lib.hid HA
  have HL := Lib.hid L.stay
  have HPR := Lib.hid (fun W h => L.print a b c d e tr g W h ht hg ha hb hc hd he)
  have HO := Lib.hid (ok_of tr a b c d e)
  have HPA := Lib.hid (fun H => pr_pa (a := a) (b := b) (c := c) (d := d) (e := e) H ht hg)
  clear ha hb hc hd he HA
  unfold tlV at HPR HPA ⊢
  clear ht hg
  obtain ⟨T, hT⟩ : ∃ T, T = (tr : Int) := ⟨_, rfl⟩
  obtain ⟨G, hG⟩ : ∃ G, G = (g : Int) := ⟨_, rfl⟩
  rw [← hT, ← hG] at HPR HPA ⊢
  clear hT hG
  have B0 : Below w.heap.size w (w.alloc (.cells #[.string a, .string b, .string c, .string d, .string e, .int .u8 T, .int .u8 G] 31)) := (Below.refl _ _).alloc (Nat.le_refl _) _
  have K0 : Hid (Kb K w (w.alloc (.cells #[.string a, .string b, .string c, .string d, .string e, .int .u8 T, .int .u8 G] 31))) := Lib.hid ⟨L.stay _ _ hK B0, B0⟩
  have P0 : Hid (T7 (w.alloc (.cells #[.string a, .string b, .string c, .string d, .string e, .int .u8 T, .int .u8 G] 31)) w.heap.size (.string a) (.string b) (.string c) (.string d) (.string e) (.int .u8 T) (.int .u8 G)) := Lib.hid (t7_new _ _ _ _ _ _ _ _ _)
  clear B0
  by_cases h : 1000 < s.size
  · have h1 : (1000 : Int) < s.size := by omega
    clear L hK h HPR HPA HO
    go_enter Try.func8, Try.ntmps8
    go_wp2_with (go_at_call 17; refine (HAW.out _ K0.out.k).mono ?_; rintro e2 w2 ⟨rfl, hb2⟩; have K2 := Lib.hid (K0.out.below HL.out hb2); clear hb2)
    go_ret
    exact ⟨rfl, K2.out.b⟩
  · have h1 : ¬ (1000 : Int) < s.size := by omega
    have HS := Lib.hid (fun W h => L.split s W h (by omega))
    have hap := sp_app s
    have o1 : ¬ 9223372036854775807 < (spA s).size + (spB s).size := by rw [← ByteArray.size_append, hap]; omega
    have hsz : s.size ≤ 1000 := by omega
    have HSZ := Lib.hid hsz
    have LS := Lib.hid L.split
    have LP := Lib.hid L.parse
    clear L hK h hsz
    generalize spA s = X at *
    generalize spB s = Y at *
    subst hap
    have h1b : ¬ (1000 : Int) < (X.size : Int) + (Y.size : Int) := by have := HSZ.out; rw [ByteArray.size_append] at this; omega
    by_cases hc : (chk tr 0 [a, b, c, d, e]).1 = 0
    · have H := HO.out hc
      have hz := pr_size (g := g) H
      obtain ⟨z1, z2, z3⟩ := pr_sp (g := g) H (X ++ Y)
      have hT := pr_isT (g := g) H
      have hv := HPA.out H
      have hp : prS tr g [a, b, c, d, e] = bs (prA tr g [a, b, c, d, e]) := by unfold prS; rw [if_pos hc]
      rw [hp] at HPR
      have hf : ftV (chk tr 0 [a, b, c, d, e]) = .agg #[.int .i64 0, .int .i64 ((chk tr 0 [a, b, c, d, e]).2 : Int)] := by unfold ftV; rw [hc]; rfl
      rw [hf] at HPR
      generalize ((chk tr 0 [a, b, c, d, e]).2 : Int) = A at *
      generalize bs (prA tr g [a, b, c, d, e]) = P at *
      have HS2 := Lib.hid (fun W h => LS.out (X ++ Y ++ P) W h (by rw [ByteArray.size_append]; have := HSZ.out; omega))
      have HP2 := Lib.hid (fun W h => LP.out P W h (by omega))
      rw [z2, z3] at HS2
      rw [hv, hT] at HP2
      have HBD : Hid (∀ W, Calls Try.prog 26 #[.agg #[.int .i64 0, .int .i64 A]] W fun e w' => e = .returned (.bool false) ∧ Below W.heap.size W w') := Lib.hid (fun W => bad_any W 0 A)
      have o2 : ¬ 9223372036854775807 < (X ++ Y).size + P.size := by have := HSZ.out; omega
      clear z1 z2 z3 hT hv hp hf hc H HPA HO LS LP hz
      go_enter Try.func8, Try.ntmps8
      go_wp2_with (first
        | (go_at_call 17; refine (HAW.out _ K6.out.k).mono ?_; rintro e7 w7 ⟨rfl, hb7⟩; have K7 := Lib.hid (K6.out.below HL.out hb7); have P7 := (P6.out.below hb7); have Q7 := (Q6.out.below hb7); clear hb7; have KK := K7; obtain ⟨_, p0, p1, p2, p3, p4, p5, p6⟩ := P7; obtain ⟨_, q0, q1, q2, q3, q4, q5, q6⟩ := Q7)
        | (go_at_call 18; refine (HP2.out _ K4.out.k).mono ?_; rintro e5 w5 ⟨rfl, hb5⟩; have K5 := Lib.hid (K4.out.below HL.out hb5); have P5 := Lib.hid (P4.out.below hb5); clear hb5; have hb6 : Below w5.heap.size w5 (w5.alloc (.cells #[.string a, .string b, .string c, .string d, .string e, .int .u8 T, .int .u8 G] 31)) := (Below.refl _ _).alloc (Nat.le_refl _) _; have K6 := Lib.hid (K5.out.below HL.out hb6); have P6 := Lib.hid (P5.out.below hb6); have Q6 : Hid (T7 (w5.alloc (.cells #[.string a, .string b, .string c, .string d, .string e, .int .u8 T, .int .u8 G] 31)) w5.heap.size (.string a) (.string b) (.string c) (.string d) (.string e) (.int .u8 T) (.int .u8 G)) := Lib.hid (t7_new _ _ _ _ _ _ _ _ _); clear hb6)
        | (go_at_call 21; refine (HS2.out _ K3.out.k).mono ?_; rintro e4 w4 ⟨rfl, hb4⟩; have K4 := Lib.hid (K3.out.below HL.out hb4); have P4 := Lib.hid (P3.out.below hb4); clear hb4)
        | (go_at_call 26; refine (HBD.out _).mono ?_; rintro e3 w3 ⟨rfl, hb3⟩; have K3 := Lib.hid (K2f.out.below HL.out hb3); have P3 := Lib.hid (P2f.out.below hb3); clear hb3)
        | (go_at_call 22; refine (HPR.out _ K1.out.k).mono ?_; rintro e2 w2 ⟨rfl, hb2⟩; have K2 := Lib.hid (K1.out.below HL.out hb2); have P2 := Lib.hid (P1.out.below hb2); clear hb2; have hb3 : Below w2.heap.size w2 (w2.alloc (.cells #[.int .i64 0, .int .i64 A] 43)) := (Below.refl _ _).alloc (Nat.le_refl _) _; have K2f := Lib.hid (K2.out.below HL.out hb3); have P2f := Lib.hid (P2.out.below hb3); clear hb3)
        | (go_at_call 21; refine (HS.out _ K0.out.k).mono ?_; rintro e1 w1 ⟨rfl, hb1⟩; have K1 := Lib.hid (K0.out.below HL.out hb1); have P1 := Lib.hid (P0.out.below hb1); clear hb1; obtain ⟨_, p0, p1, p2, p3, p4, p5, p6⟩ := P1.out))
      go_ret
      exact ⟨by simp, K7.out.b⟩
    · have hf : ftV (chk tr 0 [a, b, c, d, e]) = .agg #[.int .i64 ((chk tr 0 [a, b, c, d, e]).1 : Int), .int .i64 ((chk tr 0 [a, b, c, d, e]).2 : Int)] := rfl
      rw [hf] at HPR
      have n0 : (((chk tr 0 [a, b, c, d, e]).1 : Int) != 0) = true := by simp; omega
      generalize ((chk tr 0 [a, b, c, d, e]).1 : Int) = C at *
      generalize ((chk tr 0 [a, b, c, d, e]).2 : Int) = A at *
      generalize prS tr g [a, b, c, d, e] = P at *
      have HBD : Hid (∀ W, Calls Try.prog 26 #[.agg #[.int .i64 C, .int .i64 A]] W fun e w' => e = .returned (.bool true) ∧ Below W.heap.size W w') := Lib.hid (fun W => by have h2 := bad_any W C A; rw [n0] at h2; exact h2)
      clear HPA HO LS LP hf hc n0
      go_enter Try.func8, Try.ntmps8
      go_wp2_with (first
        | (go_at_call 17; refine (HAW.out _ K3.out.k).mono ?_; rintro e7 w7 ⟨rfl, hb7⟩; have K7 := Lib.hid (K3.out.below HL.out hb7); clear hb7)
        | (go_at_call 26; refine (HBD.out _).mono ?_; rintro e3 w3 ⟨rfl, hb3⟩; have K3 := Lib.hid (K2f.out.below HL.out hb3); clear hb3)
        | (go_at_call 22; refine (HPR.out _ K1.out.k).mono ?_; rintro e2 w2 ⟨rfl, hb2⟩; have K2 := Lib.hid (K1.out.below HL.out hb2); clear hb2; have hb3 : Below w2.heap.size w2 (w2.alloc (.cells #[.int .i64 C, .int .i64 A] 43)) := (Below.refl _ _).alloc (Nat.le_refl _) _; have K2f := Lib.hid (K2.out.below HL.out hb3); clear hb3)
        | (go_at_call 21; refine (HS.out _ K0.out.k).mono ?_; rintro e1 w1 ⟨rfl, hb1⟩; have K1 := Lib.hid (K0.out.below HL.out hb1); have P1 := Lib.hid (P0.out.below hb1); clear hb1; obtain ⟨_, p0, p1, p2, p3, p4, p5, p6⟩ := P1.out))
      go_ret
      exact ⟨rfl, K7.out.b⟩
end Go.Proofs.Ytidlkkhmmgkicaa.ta
