/- The law RunBack of layer 4, from the answers of a table. -/
import Derived.Test.YtiokdeomdeenbaaDoorTbC
namespace Go.Proofs.YtiokdeomdeenbaaDoor.tb
open Go.RowKit Go.Lib
set_option linter.unusedVariables false
variable {K : World → Prop} {TB : World → Nat → Value → List (Int × Int) → Prop}
/-- A block of a code and a sign. -/
structure P2 (w : World) (b : Nat) (x y : Int) : Prop where
  lt : b < w.heap.size
  c0 : w.cell? ⟨b, 0, none⟩ = some (.int .i64 x)
  c1 : w.cell? ⟨b, 1, none⟩ = some (.int .i32 y)
theorem P2.below {w w' : World} {b B : Nat} {x y : Int} (h : P2 w b x y) (hb : Below B w w') (hB : b < B) : P2 w' b x y :=
  ⟨Nat.lt_of_lt_of_le h.lt hb.size, (hb.cell (p := ⟨b, 0, none⟩) hB).trans h.c0, (hb.cell (p := ⟨b, 1, none⟩) hB).trans h.c1⟩
theorem p2_new (w : World) (x y : Int) (t : Nat) : P2 (w.alloc (.cells #[.int .i64 x, .int .i32 y] t)) w.heap.size x y := by
  refine ⟨by simp, ?_, ?_⟩
  · rw [World.cell?_alloc_mark]; rfl
  · rw [World.cell?_alloc_mark]; rfl
/-- What stands while a table's pairs are looked up. -/
structure BSt (K : World → Prop) (TB : World → Nat → Value → List (Int × Int) → Prop) (w : World) (b : Nat) (X : Value) (l : List (Int × Int)) (A : Option Addr) (c : Nat) (W : World) : Prop where
  t : F1 W b X
  k : K W
  tb : TE TB W X l
  row : RowP W A l.length c l
  bel : Below w.heap.size w W
theorem BSt.below (T : Tab K TB) {w : World} {b : Nat} {X : Value} {l : List (Int × Int)} {A : Option Addr} {c : Nat} {W W' : World} (h : BSt K TB w b X l A c W) (hb : Below W.heap.size W W') : BSt K TB w b X l A c W' :=
  ⟨h.t.below hb h.t.lt, T.stay _ _ h.k hb, T.keepE h.tb hb, h.row.below hb, h.bel.trans (hb.mono h.bel.size)⟩
set_option maxRecDepth 100000 in
set_option maxHeartbeats 8000000 in
theorem back_walk (T : Tab K TB) (A : Option Addr) (n c : Nat) (l : List Pce) (w : World) (h : RowC w A n c l) (hn : n ≤ 9223372036854775807) (hK : K w) :
    Calls Tryd.prog 6 #[.slice A n c] w fun e w' => e = .returned (.bool true) ∧ Below w.heap.size w w' := by
  have HLT := Lib.hid (fun w2 h2 => Light_any A n c l w2 h2 hn)
  have HAW := Lib.hid T.awake
  have H := Lib.hid h; have HK := Lib.hid hK; have HT := Lib.hid T
  cases hl : light l with
  | false =>
    rw [hl] at HLT
    clear h hK T hl
    go_enter Tryd.func6, Tryd.ntmps6
    go_wp2_with (first | (go_at_call 12; refine (HLT.out _ H.out).mono ?_; rintro e1 w1 ⟨rfl, hb1⟩) | (go_at_call 13; refine (HAW.out _ (HT.out.stay _ _ HK.out hb1)).mono ?_; rintro e2 w2 ⟨rfl, hb2⟩))
    go_ret
    exact ⟨rfl, hb1.trans (hb2.mono hb1.size)⟩
  | true =>
    rw [hl] at HLT
    have HTB := Lib.hid (fun w2 h1 h2 => table_any T A n c l w2 h1 hl h2)
    have hlen : ((made l).1.getD []).length ≤ 3600 := by
      cases hm : (made l).1 with
      | none => simp
      | some r => exact made_len hl hm
    have hgood : Srt ((made l).1.getD []) ∧ Rng ((made l).1.getD []) := by
      cases hm : (made l).1 with
      | none => exact ⟨Srt.nil, fun _ h => by cases h⟩
      | some r => exact made_good hm
    generalize (made l).1.getD [] = r at *
    have HG := Lib.hid hgood
    obtain ⟨N, hN⟩ : ∃ N, N = r.length := ⟨_, rfl⟩
    have HN := Lib.hid hN
    have hpr := fun w2 X h1 => T.pairs w2 X r h1 (by omega)
    rw [← hN] at hlen hpr
    have HPR := Lib.hid hpr
    clear h hK T hl hgood hN hpr
    go_enter Tryd.func6, Tryd.ntmps6
    go_wp2_with (first | (go_at_call 12; refine (HLT.out _ H.out).mono ?_; rintro e1 w1 ⟨rfl, hb1⟩; have H1 := Lib.hid (H.out.below hb1); have K1 := Lib.hid (HT.out.stay _ _ HK.out hb1)) | (go_at_call 23; refine (HTB.out _ H1.out K1.out).mono ?_; rintro e2 w2 ⟨X, rfl, ht2, hb2⟩; have hst := fun wx (a : Addr) m => run_store (P := Tryd.prog) (w := wx) (a := a) X m (HT.out.one _ _ _ ht2); have hX : Below w2.heap.size w2 (w2.alloc (.cells #[X] 27)) := (Below.refl _ _).alloc (Nat.le_refl _) _; have F2 := Lib.hid (f1_new w2 X 27); have T2 := Lib.hid (HT.out.keepE ht2 hX); have B2 := Lib.hid ((hb1.trans (hb2.mono hb1.size)).trans (hX.mono (Nat.le_trans hb1.size hb2.size))); clear hX) | (go_at_call 26; refine (HPR.out _ _ T2.out).mono ?_; rintro e3 w3 ⟨A3, c3, rfl, hr3, hb3⟩; have S3 : Hid (BSt K TB w w2.heap.size X r A3 c3 w3) := Lib.hid ⟨F2.out.below hb3 F2.out.lt, HT.out.stay _ _ HK.out (B2.out.trans (hb3.mono B2.out.size)), HT.out.keepE T2.out hb3, by rw [← HN.out]; exact hr3, B2.out.trans (hb3.mono B2.out.size)⟩))
    obtain ⟨b, hb⟩ : ∃ b, b = w2.heap.size := ⟨_, rfl⟩
    rw [← hb] at S3 ⊢
    clear hb F2 T2 B2 hr3 hb3 ht2 hb1 hb2 H1 K1
    go_loopw [4, 22] (fun u i wr => ∃ (j : Nat) (L : Int), j ≤ N ∧ i = .int .i64 j ∧ u = .int .i64 L ∧ (∀ q ∈ r.drop j, L < q.1) ∧ BSt K TB w b X r A3 c3 wr) (fun _ i _ => N - (RowKit.intOf i).toNat)
    case atStart => exact ⟨0, -1, Nat.zero_le _, rfl, rfl, fun q hq => by have := HG.out.2 q (List.mem_of_mem_drop hq); omega, S3.out⟩
    case round =>
      obtain ⟨j, L, hj, rfl, rfl, hL, hS⟩ := hrel
      have SR := Lib.hid hS; have HL := Lib.hid hL
      clear hL hS
      by_cases hlt : j < N
      · obtain ⟨a, rfl, a1, a2, k0, k1⟩ := SR.out.row.at j (by have := HN.out; omega)
        unfold maxLen at a2
        rw [← HN.out] at a1
        have hjl : j < r.length := by have := HN.out; omega
        have hmem : r.getD j (0, 0) ∈ r := by simp [List.getD, List.getElem?_eq_getElem hjl]
        have hdr : r.drop j = r.getD j (0, 0) :: r.drop (j + 1) := by rw [List.drop_eq_getElem_cons hjl]; simp [List.getD, List.getElem?_eq_getElem hjl]
        have hL := HL.out
        rw [hdr] at hL
        have hLx := hL _ (List.mem_cons_self ..)
        have hsd : Srt (r.drop j) := HG.out.1.sublist (List.drop_sublist j r)
        rw [hdr] at hsd
        have hnx := hsd.head
        generalize r.getD j (0, 0) = q at *
        obtain ⟨x, p⟩ := q
        simp only at k0 k1 hLx hnx
        obtain ⟨x0, x1, vp⟩ := HG.out.2 _ hmem
        rw [vr_iff] at vp
        simp only at x0 x1 vp
        obtain ⟨v1, hmv⟩ := rev_spec HG.out.1 hmem
        have v0 := (HG.out.2 _ hmv).1
        simp only at v0
        have hfx := fun w2 h1 => HT.out.forward w2 X r x h1 (by have := HN.out; omega) (by omega) (by omega)
        have hfv := fun w2 h1 => HT.out.forward w2 X r (rev r p) h1 (by have := HN.out; omega) (by omega) (by omega)
        have hrv := fun w2 h1 => HT.out.reverse w2 X r p h1 (by have := HN.out; omega) (by omega) (by omega)
        rw [(lk_mem HG.out.1 x p).2 hmem] at hfx
        rw [(lk_mem HG.out.1 (rev r p) p).2 hmv] at hfv
        have e1 : (if rev r p < 0 then (0 : Int) else rev r p) = rev r p := if_neg (by omega)
        have e2 : (!decide (rev r p < 0)) = true := by simp; exact v0
        rw [e1, e2] at hrv
        simp only [Option.getD_some, Option.isSome_some] at hfx hfv
        generalize rev r p = V at *
        have k2 : wr.cell? ⟨(a.add (j * 2)).block, (a.add (j * 2)).off + 1, none⟩ = some (.int .i32 p) := by rw [← k1]; rfl
        have HFX := Lib.hid hfx; have HFV := Lib.hid hfv; have HRV := Lib.hid hrv; have HNX := Lib.hid hnx
        have S4 := Lib.hid (SR.out.below HT.out ((Below.refl _ _).alloc (Nat.le_refl _) (.cells #[.int .i64 x, .int .i32 p] 53)))
        have Q4 := Lib.hid (p2_new wr x p 53)
        obtain ⟨_, t4, _⟩ := S4.out.t
        clear hfx hfv hrv hmem hmv hdr hL hsd hnx e1 e2 hjl k1
        clear hst
        have d1 : decide (x ≤ L) = false := decide_eq_false (by omega)
        have d2 : decide (x < V) = false := decide_eq_false (by omega)
        go_wp2_with (first | (go_at_call 19; with_reducible refine (HFX.out _ S4.out.tb).mono ?_; rintro e5 w5 ⟨rfl, hb5⟩; have S5 := Lib.hid (S4.out.below HT.out hb5); have Q5 := Lib.hid (Q4.out.below hb5 Q4.out.lt); obtain ⟨_, t5, _⟩ := S5.out.t; obtain ⟨_, p50, p51⟩ := Q5.out; clear hb5) | (go_at_call 21; refine (HRV.out _ S5.out.tb).mono ?_; rintro e6 w6 ⟨rfl, hb6⟩; have S6 := Lib.hid (S5.out.below HT.out hb6); have Q6 := Lib.hid (Q5.out.below hb6 Q5.out.lt); obtain ⟨_, t6, _⟩ := S6.out.t; clear hb6) | (go_at_call 19; with_reducible refine (HFV.out _ S6.out.tb).mono ?_; rintro e7 w7 ⟨rfl, hb7⟩; have S7 := Lib.hid (S6.out.below HT.out hb7); have Q7 := Lib.hid (Q6.out.below hb7 Q6.out.lt); obtain ⟨_, p70, p71⟩ := Q7.out; clear hb7))
        go_roundw
        case rel => exact ⟨j + 1, x, by omega, by go_num, rfl, HNX.out, S7.out⟩
        case measure => simp [RowKit.intOf]; omega
      · go_wp2_with (go_at_call 13; refine (HAW.out _ SR.out.k).mono ?_; rintro e9 w9 ⟨rfl, hb9⟩; have S9 := Lib.hid (SR.out.below HT.out hb9))
        go_ret
        exact ⟨rfl, S9.out.bel⟩
end Go.Proofs.YtiokdeomdeenbaaDoor.tb
