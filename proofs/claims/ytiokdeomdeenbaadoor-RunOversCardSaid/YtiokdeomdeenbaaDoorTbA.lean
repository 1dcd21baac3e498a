/- The law RunLooks of layer 4, from the answers of a table. -/
import Derived.Test.YtiokdeomdeenbaaDoorTb9
namespace Go.Proofs.YtiokdeomdeenbaaDoor.tb
open Go.RowKit Go.Lib
set_option linter.unusedVariables false
variable {K : World → Prop} {TB : World → Nat → Value → List (Int × Int) → Prop}
theorem getD_of {l : List (Int × Int)} {k : Nat} {q : Int × Int} (h : l[k]? = some q) : k < l.length ∧ l.getD k (0, 0) = q := by
  obtain ⟨h1, h2⟩ := List.getElem?_eq_some_iff.1 h
  exact ⟨h1, by simp [List.getD, List.getElem?_eq_getElem h1, h2]⟩
set_option maxRecDepth 100000 in
set_option maxHeartbeats 8000000 in
theorem looks_walk (T : Tab K TB) (A : Option Addr) (n c : Nat) (l : List Pce) (code p : Int) (w : World) (h : RowC w A n c l) (hn : n ≤ 9223372036854775807) (hK : K w)
    (g0 : -9223372036854775808 ≤ code) (g1 : code ≤ 9223372036854775807) (g2 : -2147483648 ≤ p) (g3 : p ≤ 2147483647) :
    Calls Tryd.prog 4 #[.slice A n c, .int .i64 code, .int .i32 p] w fun e w' => e = .returned (.bool true) ∧ Below w.heap.size w w' := by
  have HLT := Lib.hid (fun w2 h2 => Light_any A n c l w2 h2 hn)
  have HAW := Lib.hid T.awake
  have H := Lib.hid h; have HK := Lib.hid hK; have HT := Lib.hid T
  cases hl : light l with
  | false =>
    rw [hl] at HLT
    clear h hK T hl
    go_enter Tryd.func4, Tryd.ntmps4
    go_wp2_with (first | (go_at_call 12; refine (HLT.out _ H.out).mono ?_; rintro e1 w1 ⟨rfl, hb1⟩) | (go_at_call 13; refine (HAW.out _ (HT.out.stay _ _ HK.out hb1)).mono ?_; rintro e2 w2 ⟨rfl, hb2⟩))
    go_ret
    exact ⟨rfl, hb1.trans (hb2.mono hb1.size)⟩
  | true =>
    rw [hl] at HLT
    have HN := Lib.hid (fun w2 h1 h2 => T.new w2 A n c l h1 h2 hl)
    have HM := Lib.hid (fun w2 h2 => made_any A n c l w2 h2 hl)
    have hbad := @made_bad l
    cases hm : (made l).1 with
    | none =>
      have hm0 := hbad hm
      rw [hm] at HN
      have HN2 : Hid (∀ w2, K w2 → RowC w2 A n c l → Calls Tryd.prog 14 #[.slice A n c] w2 fun e w' => Below w2.heap.size w2 w' ∧ ∃ Z, e = .returned (.tuple #[.agg #[Z], .agg #[.int .i64 5, .int .i64 (made l).2]]) ∧ TB w' w2.heap.size Z []) := Lib.hid (fun w2 h1 h2 => (HN.out w2 h1 h2).mono fun e w' h => ⟨h.1, by
        rcases h.2 with ⟨Z, _, h3, h4⟩ | ⟨_, _, h0, _⟩
        · exact ⟨Z, h3, h4⟩
        · cases h0⟩)
      have HM2 : Hid (∀ w2, RowC w2 A n c l → Calls Tryd.prog 15 #[.slice A n c] w2 fun e w' => e = .returned (.tuple #[.slice none 0 0, .int .i64 (made l).2]) ∧ Below w2.heap.size w2 w') := Lib.hid (fun w2 h2 => (HM.out w2 h2).mono fun e w' h => by
        rcases h with ⟨_, h1, h2⟩ | ⟨_, _, _, h0, _⟩
        · exact ⟨h1, h2⟩
        · rw [hm] at h0; cases h0)
      generalize (made l).2 = I at *
      clear h hK T hl hbad hm HN HM
      go_enter Tryd.func4, Tryd.ntmps4
      go_wp2_with (first | (go_at_call 12; refine (HLT.out _ H.out).mono ?_; rintro e1 w1 ⟨rfl, hb1⟩; have H1 := Lib.hid (H.out.below hb1); have K1 := Lib.hid (HT.out.stay _ _ HK.out hb1)) | (go_at_call 14; refine (HN2.out _ K1.out H1.out).mono ?_; rintro e2 w2 ⟨hb2, Z, rfl, ht2⟩; obtain ⟨_, z0, z1⟩ := (f1_new w2 (.slice none 0 0) 27).below ((Below.refl (w2.alloc (.cells #[.slice none 0 0] 27)).heap.size _).alloc (Nat.le_refl _) (.cells #[.int .i64 0, .int .i64 0] 30)) (by simp); have hst := fun wx (a : Addr) m => run_store (P := Tryd.prog) (w := wx) (a := a) Z m (HT.out.one _ _ _ ⟨_, ht2⟩); have S2 := Lib.hid (TSt.new HT.out 5 I HK.out (hb1.trans (hb2.mono hb1.size)) ht2)) | (go_at_call 15; refine (HM2.out _ (H.out.below S2.out.bel)).mono ?_; rintro e3 w3 ⟨rfl, hb3⟩; have S3 := Lib.hid (S2.out.below HT.out hb3)) | (go_at_call 13; refine (HAW.out _ S3.out.k).mono ?_; rintro e4 w4 ⟨rfl, hb4⟩; have S4 := Lib.hid (S3.out.below HT.out hb4); obtain ⟨_, f0, f1, _, _⟩ := S4.out.f) | (go_at_call 17; refine (pt.bad_any _ _ _).mono ?_; rintro e5 w5 ⟨rfl, hb5⟩; have S5 := Lib.hid (S4.out.below HT.out hb5)))
      go_ret
      exact ⟨rfl, S5.out.bel⟩
    | some r =>
      rw [hm] at HN
      have HN2 : Hid (∀ w2, K w2 → RowC w2 A n c l → Calls Tryd.prog 14 #[.slice A n c] w2 fun e w' => Below w2.heap.size w2 w' ∧ ∃ X, e = .returned (.tuple #[.agg #[X], .agg #[.int .i64 0, .int .i64 0]]) ∧ TB w' w2.heap.size X r) := Lib.hid (fun w2 h1 h2 => (HN.out w2 h1 h2).mono fun e w' h => ⟨h.1, by
        rcases h.2 with ⟨_, h0, _⟩ | ⟨X, r', h0, h3, h4⟩
        · cases h0
        · cases h0; exact ⟨X, h3, h4⟩⟩)
      have HM2 : Hid (∀ w2, RowC w2 A n c l → Calls Tryd.prog 15 #[.slice A n c] w2 fun e w' => r.length ≤ 3600 ∧ ∃ A c, e = .returned (.tuple #[.slice A r.length c, .int .i64 (-1)]) ∧ RowP w' A r.length c r ∧ Below w2.heap.size w2 w') := Lib.hid (fun w2 h2 => (HM.out w2 h2).mono fun e w' h => by
        rcases h with ⟨h0, _⟩ | ⟨r', A', c', h0, _, h1, h2, h3, h4⟩
        · rw [hm] at h0; cases h0
        · rw [hm] at h0; cases h0; exact ⟨h1, A', c', h2, h3, h4⟩)
      have hfw := fun w2 X h1 h2 => T.forward w2 X r code h1 h2 g0 g1
      have hrv := fun w2 X h1 h2 => T.reverse w2 X r p h1 h2 g2 g3
      have hfd := fun A3 c3 w2 h1 h2 => refFind_any A3 r.length c3 r code w2 h1 h2
      have hrr := fun A3 c3 w2 h1 h2 => refReverse_any A3 r.length c3 r p w2 h1 h2
      obtain ⟨V, hV⟩ : ∃ V, V = rev r p := ⟨_, rfl⟩
      rw [← hV] at hrv hrr
      clear hV
      obtain ⟨Y, J, hyj, hYJ⟩ : ∃ Y J, (if V < 0 then 0 else V) = Y ∧ (!decide (V < 0)) = J := ⟨_, _, rfl, rfl⟩
      rw [hyj, hYJ] at hrv
      have hJ : (J = true ∧ Y = V ∧ 0 ≤ V) ∨ (J = false ∧ Y = 0 ∧ V < 0) := by
        by_cases hv : V < 0
        · rw [if_pos hv] at hyj; exact .inr ⟨by rw [← hYJ]; simp [hv], hyj.symm, hv⟩
        · rw [if_neg hv] at hyj; exact .inl ⟨by rw [← hYJ]; simp [hv], hyj.symm, by omega⟩
      clear hyj hYJ
      have HRV := Lib.hid hrv; have HRR := Lib.hid hrr
      rcases find_cases r code with ⟨h1, h2⟩ | ⟨k, q, h1, h2, h3⟩
      · rw [h1] at hfw
        rw [h2] at hfd
        simp only [Option.getD_none, Option.isSome_none] at hfw
        have HFW := Lib.hid hfw; have HFD := Lib.hid hfd
        clear h hK T hl hbad hm HN HM h1 h2 hfw hfd hrv hrr
        rcases hJ with ⟨rfl, rfl, hv⟩ | ⟨rfl, rfl, hv⟩
        all_goals
          try have dv : decide ((0 : Int) ≤ V) = false := decide_eq_false (by omega)
          go_enter Tryd.func4, Tryd.ntmps4
          go_wp2_with (first | (go_at_call 12; refine (HLT.out _ H.out).mono ?_; rintro e1 w1 ⟨rfl, hb1⟩; have H1 := Lib.hid (H.out.below hb1); have K1 := Lib.hid (HT.out.stay _ _ HK.out hb1)) | (go_at_call 14; refine (HN2.out _ K1.out H1.out).mono ?_; rintro e2 w2 ⟨hb2, X, rfl, ht2⟩; obtain ⟨_, z0, z1⟩ := (f1_new w2 (.slice none 0 0) 27).below ((Below.refl (w2.alloc (.cells #[.slice none 0 0] 27)).heap.size _).alloc (Nat.le_refl _) (.cells #[.int .i64 0, .int .i64 0] 30)) (by simp); have hst := fun wx (a : Addr) m => run_store (P := Tryd.prog) (w := wx) (a := a) X m (HT.out.one _ _ _ ⟨_, ht2⟩); have S2 := Lib.hid (TSt.new HT.out 0 0 HK.out (hb1.trans (hb2.mono hb1.size)) ht2)) | (go_at_call 15; refine (HM2.out _ (H.out.below S2.out.bel)).mono ?_; rintro e3 w3 ⟨hr3, A3, c3, rfl, hr, hb3⟩; have S3 := Lib.hid (S2.out.below HT.out hb3); obtain ⟨_, t0, _⟩ := S3.out.t) | (go_at_call 19; refine (HFW.out _ _ S3.out.tb (by omega)).mono ?_; rintro e4 w4 ⟨rfl, hb4⟩; have S4 := Lib.hid (S3.out.below HT.out hb4); obtain ⟨_, t1, _⟩ := S4.out.t; have R4 := Lib.hid (hr.below hb4); skip) | (go_at_call 20; refine (HFD.out _ _ _ R4.out (by omega)).mono ?_; rintro e5 w5 ⟨rfl, rfl⟩) | (go_at_call 21; refine (HRV.out _ _ S4.out.tb (by omega)).mono ?_; rintro e6 w6 ⟨rfl, hb6⟩; have S6 := Lib.hid (S4.out.below HT.out hb6); have R6 := Lib.hid (R4.out.below hb6)) | (go_at_call 22; refine (HRR.out _ _ _ R6.out (by omega)).mono ?_; rintro e7 w7 ⟨rfl, rfl⟩) | (go_at_call 13; refine (HAW.out _ S6.out.k).mono ?_; rintro e9 w9 ⟨rfl, hb9⟩; have S9 := Lib.hid (S6.out.below HT.out hb9)))
          go_ret
          exact ⟨rfl, S9.out.bel⟩
      · obtain ⟨hk, hg⟩ := getD_of h3
        rw [h1] at hfw
        rw [h2] at hfd
        simp only [Option.getD_some, Option.isSome_some] at hfw
        have HFW := Lib.hid hfw; have HFD := Lib.hid hfd; have HG := Lib.hid hg
        clear h hK T hl hbad hm HN HM h1 h2 hfw hfd hrv hrr h3 hg
        rcases hJ with ⟨rfl, rfl, hv⟩ | ⟨rfl, rfl, hv⟩
        all_goals
          try have dv : decide ((0 : Int) ≤ V) = false := decide_eq_false (by omega)
          go_enter Tryd.func4, Tryd.ntmps4
          go_wp2_with (first | (go_at_call 12; refine (HLT.out _ H.out).mono ?_; rintro e1 w1 ⟨rfl, hb1⟩; have H1 := Lib.hid (H.out.below hb1); have K1 := Lib.hid (HT.out.stay _ _ HK.out hb1)) | (go_at_call 14; refine (HN2.out _ K1.out H1.out).mono ?_; rintro e2 w2 ⟨hb2, X, rfl, ht2⟩; obtain ⟨_, z0, z1⟩ := (f1_new w2 (.slice none 0 0) 27).below ((Below.refl (w2.alloc (.cells #[.slice none 0 0] 27)).heap.size _).alloc (Nat.le_refl _) (.cells #[.int .i64 0, .int .i64 0] 30)) (by simp); have hst := fun wx (a : Addr) m => run_store (P := Tryd.prog) (w := wx) (a := a) X m (HT.out.one _ _ _ ⟨_, ht2⟩); have S2 := Lib.hid (TSt.new HT.out 0 0 HK.out (hb1.trans (hb2.mono hb1.size)) ht2)) | (go_at_call 15; refine (HM2.out _ (H.out.below S2.out.bel)).mono ?_; rintro e3 w3 ⟨hr3, A3, c3, rfl, hr, hb3⟩; have S3 := Lib.hid (S2.out.below HT.out hb3); obtain ⟨_, t0, _⟩ := S3.out.t) | (go_at_call 19; refine (HFW.out _ _ S3.out.tb (by omega)).mono ?_; rintro e4 w4 ⟨rfl, hb4⟩; have S4 := Lib.hid (S3.out.below HT.out hb4); obtain ⟨_, t1, _⟩ := S4.out.t; have R4 := Lib.hid (hr.below hb4); obtain ⟨a, rfl, a1, a2, k0, k1⟩ := R4.out.at k (by omega); rw [HG.out] at k0 k1; simp only at k0 k1; have k2 : w4.cell? ⟨(a.add (k * 2)).block, (a.add (k * 2)).off + 1, none⟩ = some (.int .i32 q) := (by rw [← k1]; rfl); unfold maxLen at a2) | (go_at_call 20; refine (HFD.out _ _ _ R4.out (by omega)).mono ?_; rintro e5 w5 ⟨rfl, rfl⟩) | (go_at_call 21; refine (HRV.out _ _ S4.out.tb (by omega)).mono ?_; rintro e6 w6 ⟨rfl, hb6⟩; have S6 := Lib.hid (S4.out.below HT.out hb6); have R6 := Lib.hid (R4.out.below hb6)) | (go_at_call 22; refine (HRR.out _ _ _ R6.out (by omega)).mono ?_; rintro e7 w7 ⟨rfl, rfl⟩) | (go_at_call 13; refine (HAW.out _ S6.out.k).mono ?_; rintro e9 w9 ⟨rfl, hb9⟩; have S9 := Lib.hid (S6.out.below HT.out hb9)))
          go_ret
          exact ⟨rfl, S9.out.bel⟩
end Go.Proofs.YtiokdeomdeenbaaDoor.tb
