/- Layer 12: the walk of TailPrints. -/
import Derived.Test.YtidlkkhmmgkicaaTa8
import Derived.Deep.RegionHeld3
namespace Go.Proofs.Ytidlkkhmmgkicaa.ta
open Go.RowKit Go.Lib
open Go.Proofs.Ytidlkkhmmgkicaa.un (bs bs_list bs_size bs_app bs_back size_list bt wrap64 data_app Kb Kb.below)
set_option linter.unusedVariables false
set_option maxRecDepth 100000 in
set_option maxHeartbeats 8000000 in
theorem prints_walk {K : World → Prop} (L : Tl K) (a b c d e : ByteArray) (tr g : Nat) (w : World) (hK : K w) (ht : tr < 256) (hg : g < 256) (ha : a.size ≤ maxLen) (hb : b.size ≤ maxLen) (hc : c.size ≤ maxLen) (hd : d.size ≤ maxLen) (he : e.size ≤ maxLen) : Calls Try.prog 7 #[tlV a b c d e tr g] w fun e w' => e = .returned (.bool true) ∧ Below w.heap.size w w' := by
  have HAW := Lib.hid (fun w2 h2 => awake_any L w2 h2)
  have HL := Lib.hid L.stay
  have HPR := Lib.hid (fun W h => L.print a b c d e tr g W h ht hg ha hb hc hd he)
  have HCK := Lib.hid (fun W h => L.check a b c d e tr g W h ht hg ha hb hc hd he)
  have HOF := Lib.hid (fun W => of_any a b c d e tr g W ht hg)
  have HO := Lib.hid (ok_of tr a b c d e)
  have HPA := Lib.hid (fun H => pr_pa (a := a) (b := b) (c := c) (d := d) (e := e) H ht hg)
  have HRC := Lib.hid (fun W a1 b1 c1 d1 e1 => Check_any a b c d e tr g W ht a1 b1 c1 d1 e1)
  have HRP := Lib.hid (fun W a1 b1 c1 d1 e1 => Print_any a b c d e tr g W ht hg a1 b1 c1 d1 e1)
  have LP := Lib.hid L.parse
  unfold maxLen at ha hb hc hd he
  unfold tlV at HPR HCK HPA ⊢
  clear ht hg
  obtain ⟨T, hT⟩ : ∃ T, T = (tr : Int) := ⟨_, rfl⟩
  obtain ⟨G, hG⟩ : ∃ G, G = (g : Int) := ⟨_, rfl⟩
  rw [← hT, ← hG] at HPR HCK HPA HOF HRC HRP ⊢
  clear hT hG
  have ix0 : ∀ wx : World, (Instr.index 34 (.agg #[.string a, .string b, .string c, .string d, .string e]) (.int .i64 0)).run Try.prog wx = .ok (.string a) wx := fun wx => by kernel_rfl
  have ix1 : ∀ wx : World, (Instr.index 34 (.agg #[.string a, .string b, .string c, .string d, .string e]) (.int .i64 1)).run Try.prog wx = .ok (.string b) wx := fun wx => by kernel_rfl
  have ix2 : ∀ wx : World, (Instr.index 34 (.agg #[.string a, .string b, .string c, .string d, .string e]) (.int .i64 2)).run Try.prog wx = .ok (.string c) wx := fun wx => by kernel_rfl
  have ix3 : ∀ wx : World, (Instr.index 34 (.agg #[.string a, .string b, .string c, .string d, .string e]) (.int .i64 3)).run Try.prog wx = .ok (.string d) wx := fun wx => by kernel_rfl
  have ix4 : ∀ wx : World, (Instr.index 34 (.agg #[.string a, .string b, .string c, .string d, .string e]) (.int .i64 4)).run Try.prog wx = .ok (.string e) wx := fun wx => by kernel_rfl
  have B0 : Below w.heap.size w (w.alloc (.cells #[.string a, .string b, .string c, .string d, .string e, .int .u8 T, .int .u8 G] 31)) := (Below.refl _ _).alloc (Nat.le_refl _) _
  have K0 : Hid (Kb K w (w.alloc (.cells #[.string a, .string b, .string c, .string d, .string e, .int .u8 T, .int .u8 G] 31))) := Lib.hid ⟨L.stay _ _ hK B0, B0⟩
  have P0 : Hid (T7 (w.alloc (.cells #[.string a, .string b, .string c, .string d, .string e, .int .u8 T, .int .u8 G] 31)) w.heap.size (.string a) (.string b) (.string c) (.string d) (.string e) (.int .u8 T) (.int .u8 G)) := Lib.hid (t7_new _ _ _ _ _ _ _ _ _)
  have MA := Lib.hid ha
  have MB := Lib.hid hb
  have MC := Lib.hid hc
  have MD := Lib.hid hd
  have ME := Lib.hid he
  clear B0 L hK ha hb hc hd he
  go_enter Try.func7, Try.ntmps7
  go_wp2_with (go_at_call 19; refine (HOF.out _).mono ?_; rintro e1 w1 ⟨rfl, hb1⟩; have K1 := Lib.hid (K0.out.below HL.out hb1); have P1 := Lib.hid (P0.out.below hb1); clear hb1; have hb2 : Below w1.heap.size w1 (w1.alloc (.cells #[.string a, .string b, .string c, .string d, .string e, .int .i64 T, .int .i64 G] 36)) := (Below.refl _ _).alloc (Nat.le_refl _) _; have K2 := Lib.hid (K1.out.below HL.out hb2); have P2 := Lib.hid (P1.out.below hb2); have R2 : Hid (T7 (w1.alloc (.cells #[.string a, .string b, .string c, .string d, .string e, .int .i64 T, .int .i64 G] 36)) w1.heap.size (.string a) (.string b) (.string c) (.string d) (.string e) (.int .i64 T) (.int .i64 G)) := Lib.hid (t7_new _ _ _ _ _ _ _ _ _); clear hb2)
  go_loopw [16] (fun i wr => wr = w1.alloc (.cells #[.string a, .string b, .string c, .string d, .string e, .int .i64 T, .int .i64 G] 36) ∧ ((i = .int .i64 0 ∧ Hid (True)) ∨ (i = .int .i64 1 ∧ Hid (a.size ≤ 500)) ∨ (i = .int .i64 2 ∧ Hid (a.size ≤ 500 ∧ b.size ≤ 500)) ∨ (i = .int .i64 3 ∧ Hid (a.size ≤ 500 ∧ b.size ≤ 500 ∧ c.size ≤ 500)) ∨ (i = .int .i64 4 ∧ Hid (a.size ≤ 500 ∧ b.size ≤ 500 ∧ c.size ≤ 500 ∧ d.size ≤ 500)) ∨ (i = .int .i64 5 ∧ Hid (a.size ≤ 500 ∧ b.size ≤ 500 ∧ c.size ≤ 500 ∧ d.size ≤ 500 ∧ e.size ≤ 500)))) (fun i _ => 5 - (RowKit.intOf i).toNat)
  case atStart => exact ⟨rfl, .inl ⟨rfl, Lib.hid trivial⟩⟩
  case round =>
    obtain ⟨rfl, hrel⟩ := hrel
    rcases hrel with ⟨rfl, ho⟩ | ⟨rfl, ho⟩ | ⟨rfl, ho⟩ | ⟨rfl, ho⟩ | ⟨rfl, ho⟩ | ⟨rfl, ho⟩
    · by_cases hx : a.size ≤ 500
      · have gt : ¬ (500 : Int) < a.size := by omega
        have HN : Hid (a.size ≤ 500) := Lib.hid hx
        clear hx
        go_wp2_with fail
        go_roundw
        case rel => exact ⟨trivial, .inr (.inl ⟨rfl, Lib.hid HN.out⟩)⟩
        case measure => simp [RowKit.intOf]
      · have gt : (500 : Int) < a.size := by omega
        clear hx
        go_wp2_with (go_at_call 17; refine (HAW.out _ K2.out.k).mono ?_; rintro e9 w9 ⟨rfl, hb9⟩; have K9 := Lib.hid (K2.out.below HL.out hb9); clear hb9)
        go_ret
        exact ⟨rfl, K9.out.b⟩
    · by_cases hx : b.size ≤ 500
      · have gt : ¬ (500 : Int) < b.size := by omega
        have HN : Hid (a.size ≤ 500 ∧ b.size ≤ 500) := Lib.hid ⟨ho.out, hx⟩
        clear hx
        go_wp2_with fail
        go_roundw
        case rel => exact ⟨trivial, .inr (.inr (.inl ⟨rfl, Lib.hid HN.out⟩))⟩
        case measure => simp [RowKit.intOf]
      · have gt : (500 : Int) < b.size := by omega
        clear hx
        go_wp2_with (go_at_call 17; refine (HAW.out _ K2.out.k).mono ?_; rintro e9 w9 ⟨rfl, hb9⟩; have K9 := Lib.hid (K2.out.below HL.out hb9); clear hb9)
        go_ret
        exact ⟨rfl, K9.out.b⟩
    · by_cases hx : c.size ≤ 500
      · have gt : ¬ (500 : Int) < c.size := by omega
        have HN : Hid (a.size ≤ 500 ∧ b.size ≤ 500 ∧ c.size ≤ 500) := Lib.hid ⟨ho.out.1, ho.out.2, hx⟩
        clear hx
        go_wp2_with fail
        go_roundw
        case rel => exact ⟨trivial, .inr (.inr (.inr (.inl ⟨rfl, Lib.hid HN.out⟩)))⟩
        case measure => simp [RowKit.intOf]
      · have gt : (500 : Int) < c.size := by omega
        clear hx
        go_wp2_with (go_at_call 17; refine (HAW.out _ K2.out.k).mono ?_; rintro e9 w9 ⟨rfl, hb9⟩; have K9 := Lib.hid (K2.out.below HL.out hb9); clear hb9)
        go_ret
        exact ⟨rfl, K9.out.b⟩
    · by_cases hx : d.size ≤ 500
      · have gt : ¬ (500 : Int) < d.size := by omega
        have HN : Hid (a.size ≤ 500 ∧ b.size ≤ 500 ∧ c.size ≤ 500 ∧ d.size ≤ 500) := Lib.hid ⟨ho.out.1, ho.out.2.1, ho.out.2.2, hx⟩
        clear hx
        go_wp2_with fail
        go_roundw
        case rel => exact ⟨trivial, .inr (.inr (.inr (.inr (.inl ⟨rfl, Lib.hid HN.out⟩))))⟩
        case measure => simp [RowKit.intOf]
      · have gt : (500 : Int) < d.size := by omega
        clear hx
        go_wp2_with (go_at_call 17; refine (HAW.out _ K2.out.k).mono ?_; rintro e9 w9 ⟨rfl, hb9⟩; have K9 := Lib.hid (K2.out.below HL.out hb9); clear hb9)
        go_ret
        exact ⟨rfl, K9.out.b⟩
    · by_cases hx : e.size ≤ 500
      · have gt : ¬ (500 : Int) < e.size := by omega
        have HN : Hid (a.size ≤ 500 ∧ b.size ≤ 500 ∧ c.size ≤ 500 ∧ d.size ≤ 500 ∧ e.size ≤ 500) := Lib.hid ⟨ho.out.1, ho.out.2.1, ho.out.2.2.1, ho.out.2.2.2, hx⟩
        clear hx
        go_wp2_with fail
        go_roundw
        case rel => exact ⟨trivial, .inr (.inr (.inr (.inr (.inr (⟨rfl, Lib.hid HN.out⟩)))))⟩
        case measure => simp [RowKit.intOf]
      · have gt : (500 : Int) < e.size := by omega
        clear hx
        go_wp2_with (go_at_call 17; refine (HAW.out _ K2.out.k).mono ?_; rintro e9 w9 ⟨rfl, hb9⟩; have K9 := Lib.hid (K2.out.below HL.out hb9); clear hb9)
        go_ret
        exact ⟨rfl, K9.out.b⟩
    · obtain ⟨sa, sb, sc, sd, se⟩ := ho.out
      have HRC2 := Lib.hid (fun W => HRC.out W (by omega) (by omega) (by omega) (by omega) (by omega))
      have HRP2 := Lib.hid (fun W => HRP.out W (by omega) (by omega) (by omega) (by omega) (by omega))
      clear sa sb sc sd se HRC HRP ho
      have hf : ftV (chk tr 0 [a, b, c, d, e]) = .agg #[.int .i64 ((chk tr 0 [a, b, c, d, e]).1 : Int), .int .i64 ((chk tr 0 [a, b, c, d, e]).2 : Int)] := rfl
      rw [hf] at HPR HCK
      clear hf
      obtain ⟨_, p0, p1, p2, p3, p4, p5, p6⟩ := P2.out
      obtain ⟨C, hC⟩ : ∃ C, C = ((chk tr 0 [a, b, c, d, e]).1 : Int) := ⟨_, rfl⟩
      have HC := Lib.hid hC
      rw [← hC] at HPR HCK HRC2
      clear hC
      generalize ((chk tr 0 [a, b, c, d, e]).2 : Int) = A at *
      obtain ⟨S, hS⟩ : ∃ S, S = prS tr g [a, b, c, d, e] := ⟨_, rfl⟩
      have HS := Lib.hid hS
      rw [← hS] at HPR
      clear hS
      go_wp2_with (first
        | (go_at_call 23; refine (HRC2.out _).mono ?_; rintro e5 w5 ⟨rfl, hb5⟩; have K5 := Lib.hid (K4.out.below HL.out hb5); have P5 := Lib.hid (P4.out.below hb5); have R5 := Lib.hid (R4.out.below hb5); have F5 := Lib.hid (F4.out.below hb5); clear hb5; clear p0 p1 p2 p3 p4 p5 p6 r0 r1 r2 r3 r4 r5 r6; obtain ⟨_, p0, p1, p2, p3, p4, p5, p6⟩ := P5.out; obtain ⟨_, f0, f1⟩ := F5.out)
        | (go_at_call 22; refine (HPR.out _ K2.out.k).mono ?_; rintro e3 w3 ⟨rfl, hb3⟩; have K3 := Lib.hid (K2.out.below HL.out hb3); have P3 := Lib.hid (P2.out.below hb3); have R3 := Lib.hid (R2.out.below hb3); clear hb3; have hb4 : Below w3.heap.size w3 (w3.alloc (.cells #[.int .i64 C, .int .i64 A] 43)) := (Below.refl _ _).alloc (Nat.le_refl _) _; have K4 := Lib.hid (K3.out.below HL.out hb4); have P4 := Lib.hid (P3.out.below hb4); have R4 := Lib.hid (R3.out.below hb4); have F4 := Lib.hid (t2_new w3 43 (.int .i64 C) (.int .i64 A)); clear hb4; obtain ⟨_, r0, r1, r2, r3, r4, r5, r6⟩ := R4.out))
      go_region_held3 (fun w' => w'.cell? ⟨w.heap.size, 0, none⟩ = some (.string a) ∧ w'.cell? ⟨w.heap.size, 1, none⟩ = some (.string b) ∧ w'.cell? ⟨w.heap.size, 2, none⟩ = some (.string c) ∧ w'.cell? ⟨w.heap.size, 3, none⟩ = some (.string d) ∧ w'.cell? ⟨w.heap.size, 4, none⟩ = some (.string e) ∧ w'.cell? ⟨w.heap.size, 5, none⟩ = some (.int .u8 T) ∧ w'.cell? ⟨w.heap.size, 6, none⟩ = some (.int .u8 G) ∧ w'.cell? ⟨w3.heap.size, 0, none⟩ = some (.int .i64 C) ∧ w'.cell? ⟨w3.heap.size, 1, none⟩ = some (.int .i64 A)) (go_keep) (first | (go_at_call 24; refine (HCK.out _ (HL.out _ _ K5.out.k (Below.refl _ _).drew)).mono ?_; rintro e6 w6 ⟨rfl, hb6⟩; have K6 := Lib.hid ((K5.out.below HL.out (Below.refl _ _).drew).below HL.out hb6); have P6 := Lib.hid ((P5.out.below (Below.refl _ _).drew).below hb6); have R6 := Lib.hid ((R5.out.below (Below.refl _ _).drew).below hb6); have F6 := Lib.hid ((F5.out.below (Below.refl _ _).drew).below hb6); clear hb6; clear p0 p1 p2 p3 p4 p5 p6 f0 f1; obtain ⟨_, p0, p1, p2, p3, p4, p5, p6⟩ := P6.out; obtain ⟨_, f0, f1⟩ := F6.out))
      by_cases hc : C = 0
      · have hc2 : (chk tr 0 [a, b, c, d, e]).1 = 0 := by have := HC.out; omega
        have H := HO.out hc2
        have hv := HPA.out H
        have hz := pr_size (g := g) H
        have hT := pr_isT (g := g) H
        have hS2 : S = bs (prA tr g [a, b, c, d, e]) := by rw [HS.out]; unfold prS; rw [if_pos hc2]
        rw [← hS2] at hv hz hT HRP2
        have LP2 := Lib.hid (fun W h => LP.out S W h (by omega))
        rw [hv, hT] at LP2
        have e128 : (S.size : Int) = 128 := by omega
        subst hc
        clear hc2 H hv hz hT hS2 HC HS LP HPA HO HOF HCK HPR HRC2
        go_wp2_with (first
          | (go_at_call 25; refine (HRP2.out _).mono ?_; rintro e10 w10 ⟨rfl, hb10⟩; have K10 := Lib.hid (K9.out.below HL.out hb10); have P10 := Lib.hid (P9.out.below hb10); have Q10 := Lib.hid (Q9.out.below hb10); clear hb10; clear r0 r1 r2 r3 r4 r5 r6; obtain ⟨_, p0, p1, p2, p3, p4, p5, p6⟩ := P10.out; obtain ⟨_, q0, q1, q2, q3, q4, q5, q6⟩ := Q10.out)
          | (go_at_call 17; refine (HAW.out _ K8.out.k).mono ?_; rintro e9 w9 ⟨rfl, hb9⟩; have K9 := Lib.hid (K8.out.below HL.out hb9); have P9 := Lib.hid (P8.out.below hb9); have Q9 := Lib.hid (Q8.out.below hb9); have R9 := Lib.hid (R8.out.below hb9); clear hb9; obtain ⟨_, r0, r1, r2, r3, r4, r5, r6⟩ := R9.out)
          | (go_at_call 18; refine (LP2.out _ K6.out.k).mono ?_; rintro e7 w7 ⟨rfl, hb7⟩; have K7 := Lib.hid (K6.out.below HL.out hb7); have P7 := Lib.hid (P6.out.below hb7); have R7 := Lib.hid (R6.out.below hb7); clear hb7; have hb8 : Below w7.heap.size w7 (w7.alloc (.cells #[.string a, .string b, .string c, .string d, .string e, .int .u8 T, .int .u8 G] 31)) := (Below.refl _ _).alloc (Nat.le_refl _) _; have K8 := Lib.hid (K7.out.below HL.out hb8); have P8 := Lib.hid (P7.out.below hb8); have R8 := Lib.hid (R7.out.below hb8); have Q8 : Hid (T7 (w7.alloc (.cells #[.string a, .string b, .string c, .string d, .string e, .int .u8 T, .int .u8 G] 31)) w7.heap.size (.string a) (.string b) (.string c) (.string d) (.string e) (.int .u8 T) (.int .u8 G)) := Lib.hid (t7_new _ _ _ _ _ _ _ _ _); clear hb8; clear p0 p1 p2 p3 p4 p5 p6 f0 f1))
        go_ret
        exact ⟨by simp, K10.out.b⟩
      · have n0 : (C == 0) = false := by simp; omega
        have hS2 : S = ⟨#[]⟩ := by rw [HS.out]; unfold prS; rw [if_neg (by have := HC.out; omega)]
        subst hS2
        clear hc HC HS LP HPA HO HOF HCK HPR HRC2
        go_wp2_with (go_at_call 17; refine (HAW.out _ K6.out.k).mono ?_; rintro e9 w9 ⟨rfl, hb9⟩; have K9 := Lib.hid (K6.out.below HL.out hb9); clear hb9)
        go_ret
        exact ⟨rfl, K9.out.b⟩
end Go.Proofs.Ytidlkkhmmgkicaa.ta
