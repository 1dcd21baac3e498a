/- Several texts in one. -/
import Derived.Test.YtbgbgigpcegenaaGreatDoorZ13
import Derived.Test.YtbgbgigpcegenaaGreatDoorZ9
import Derived.Test.YtbgbgigpcegenaaGreatDoorZ8
import Derived.WalkSmall
import Derived.Lib.Hide
import Derived.Maps.AppendAt
import Derived.Laws.AppendOwnNone
import Derived.Lib.ConvBytes
import Derived.Laws.BytesArg
namespace Go.Proofs.YtbgbgigpcegenaaGreatDoor.sg
open Go.RowKit Go.Lib
open Go.Proofs.YtbgbgigpcegenaaGreatDoor.tb
set_option linter.unusedVariables false
def bv (l : List UInt8) : List Value := l.map fun b => Value.int .u8 (b.toNat : Int)
theorem str_bytes (l : List UInt8) : strOfNums (l.map fun b => (b.toNat : Int)) = ⟨l.toArray⟩ := by
  apply ByteArray.ext
  apply Array.ext'
  show (strOfNums _).data.toList = l
  rw [strOfNums_data, List.map_map]
  conv => rhs; rw [← List.map_id l]
  apply List.map_congr_left
  intro b _
  simp
theorem kind_it {w : World} {B : Nat} {e : TypeId} {k n it : Nat} {v : Value} {xs : List Value} {s : ByteArray} {pos : Nat} (h : w.ownsRow B e k v n xs) (hX : w.heap[it]? = some (.stringIter s pos)) : v.ownBlock ≠ some it := by
  obtain ⟨_, ⟨rfl, _⟩ | ⟨g, cap, cur, rfl, _, hg, _⟩⟩ := h
  · simp [Value.ownBlock]
  · intro hx
    simp [Value.ownBlock] at hx
    subst hx
    rw [hX] at hg
    cases hg
theorem own_iter {w : World} {B : Nat} {e : TypeId} {k n it : Nat} {v : Value} {xs : List Value} {s : ByteArray} {pos : Nat} (h : w.ownsRow B e k v n xs) (hX : w.heap[it]? = some (.stringIter s pos)) (s' : ByteArray) (pos' : Nat) : (w.iterAt it s' pos').ownsRow B e k v n xs := by
  obtain ⟨h1, h2 | ⟨g, cap, cur, rfl, hb, hg, r⟩⟩ := h
  · exact ⟨h1, .inl h2⟩
  · refine ⟨h1, .inr ⟨g, cap, cur, rfl, hb, ?_, r⟩⟩
    rw [iterAt_other _ _ _ _ _ (fun e => by subst e; rw [hX] at hg; cases hg)]
    exact hg
/-- What Encode answers. -/
def SEnc (w : World) (r : List UInt8 × Option Nat) (e : Ending) (w' : World) : Prop :=
  e = .returned (.tuple #[.string (if r.2 = none then ⟨r.1.toArray⟩ else ⟨#[]⟩), .agg #[.int .i64 (if r.2 = none then 0 else 6), .int .i64 (pt.fa r.2)]]) ∧ Below w.heap.size w w'
set_option maxRecDepth 100000 in
set_option maxHeartbeats 4000000 in
theorem encode_good (c c' : Int) (X : Value) (zs : List Int) (w : World) (h0 : 0 ≤ c) (h1 : c ≤ 3) (hs : (pt.txt zs).size ≤ 4000) (hv : zs.all validRune = true) (hx : TE TBr w X (tbl c)) (hT : pt.Tabs w) :
    Calls Tryz.prog 25 #[.agg #[X, .int .i64 c'], .string (pt.txt zs)] w (SEnc w (senc c 0 zs)) := by
  have hsr := tb.tabS.srt _ _ _ hx
  have h1c := TE.one hx
  obtain ⟨R, hR⟩ : ∃ R, R = senc c 0 zs := ⟨_, rfl⟩
  rw [← hR]
  obtain ⟨s, hS⟩ : ∃ s, s = pt.txt zs := ⟨_, rfl⟩
  have hah : pt.Ahead s 0 zs [] := by
    unfold pt.Ahead
    rw [hS, List.drop_zero, List.append_nil]; rfl
  have hchk : ∀ W, pt.Tabs W → Calls Tryz.prog 43 #[.string s] W fun e w' => e = .returned (.agg #[.int .i64 0, .int .i64 0]) ∧ Below W.heap.size W w' := fun W hW => by
    have h := pt.check_any s W (by rw [hS]; omega) hW
    rw [hS, (pt.scan_txt zs hv).1, ← hS] at h
    exact h
  have HBD : Hid (∀ W, Calls Tryz.prog 11 #[.agg #[.int .i64 0, .int .i64 0]] W fun e w' => e = .returned (.bool false) ∧ Below W.heap.size W w') := Lib.hid (fun W => pt.bad_any W 0 0)
  rw [← hS] at hs ⊢
  have hmk := pt.mk_bytes s.size hs
  have HX := Lib.hid hx; have HSR := Lib.hid hsr; have HT := Lib.hid hT; have HR := Lib.hid hR; have HAH := Lib.hid hah; have HCK := Lib.hid hchk; have HV := Lib.hid hv
  have D0 : Hid (Dc w X c' (tbl c) (dcW w X c')) := Lib.hid (Dc.new hx)
  clear hx hsr hT hR hah hchk hv hS
  go_enter Tryz.func25, Tryz.ntmps25
  go_wp2_with (first
    | (go_at_call 43; refine (HCK.out _ (HT.out.below D0.out.b)).mono ?_; rintro e1 w1 ⟨rfl, hb1⟩; have D1 := Lib.hid (D0.out.below hb1); clear hb1; obtain ⟨_, z0, z1, z2, z3⟩ := pt.f2_new w1 0 0 32)
    | (go_at_call 11; refine (HBD.out _).mono ?_; rintro e2 w2 ⟨rfl, hb2⟩; have D2 := Lib.hid ((D1.out.below ((Below.refl _ _).alloc (Nat.le_refl _) (.cells #[.int .i64 0, .int .i64 0] 32))).below hb2); clear hb2))
  have hle := D2.out.le
  have hitle : w.heap.size + 1 + 1 ≤ (w2.heap.size + 1) := by omega
  go_loopw [7] (fun v wr => ∃ (pos : Nat) (zr : List Int) (pre : List UInt8), wr.heap[(w2.heap.size + 1)]? = some (.stringIter s pos) ∧ pos ≤ s.size ∧ pre.length ≤ pos ∧ pt.Ahead s pos zr [] ∧ zr.all validRune = true ∧ R = (pre ++ (senc c pos zr).1, (senc c pos zr).2) ∧ wr.ownsRow (w.heap.size + 1 + 1) 5 1 v pre.length (bv pre) ∧ Dc w X c' (tbl c) wr) (fun _ wr => s.size - wr.iterPos (w2.heap.size + 1))
  case atStart =>
    have h1 : Below w2.heap.size w2 (w2.alloc (.cells (madeCells #[.int .u8 0] s.size) 5)) := (Below.refl _ _).alloc (Nat.le_refl _) _
    have h2 : Below (w2.alloc (.cells (madeCells #[.int .u8 0] s.size) 5)).heap.size (w2.alloc (.cells (madeCells #[.int .u8 0] s.size) 5)) ((w2.alloc (.cells (madeCells #[.int .u8 0] s.size) 5)).iter s 0) := (Below.refl _ _).alloc (Nat.le_refl _) _
    refine ⟨0, zs, [], ?_, Nat.zero_le _, Nat.le_refl _, HAH.out, HV.out, by rw [HR.out]; rfl, ?_, (D2.out.below h1).below h2⟩
    · have := World.iter_heap (w2.alloc (.cells (madeCells #[.int .u8 0] s.size) 5)) s 0
      rw [World.size_alloc] at this
      exact this
    · exact pt.owns_below (World.ownsRow_made w2 _ s.size hle (by unfold maxLen; omega) (by simp [madeCells])) h2
  case round =>
    obtain ⟨pos, zr, pre, hi, hpos, hpl, ha, hvz, hq, hown, hD⟩ := hrel
    have HIT := Lib.hid hi; have HOW := Lib.hid hown; have DA := Lib.hid hD; have HQ := Lib.hid hq
    have hal := pt.ahead_len ha hpos
    cases zr with
    | nil =>
      have hp : ¬ pos < s.size := by simp [pt.nums] at hal; omega
      have hnx : ∀ ty, (Instr.next (.pointer (some ⟨(w2.heap.size + 1), 0, none⟩)) true ty).run Tryz.prog wr = _ := fun ty => run_next_end_at wr (w2.heap.size + 1) s pos ty HIT.out hp
      have hr : R = (pre, none) := by rw [HQ.out]; simp [senc]
      have HRR := Lib.hid hr
      have hcv := pt.conv_row wr (w.heap.size + 1 + 1) _ (pre.map fun b => (b.toNat : Int)) (by rw [List.length_map, List.map_map]; exact HOW.out)
      rw [str_bytes] at hcv
      obtain ⟨T, hTT⟩ : ∃ T, (⟨pre.toArray⟩ : ByteArray) = T := ⟨_, rfl⟩
      rw [hTT] at hcv
      have HTT := Lib.hid hTT
      obtain ⟨_, ⟨_, f0, f1, f2, f3⟩, _, _⟩ := DA.out
      clear hi hown hD hq ha hvz hr hal hTT
      go_wp2_with fail
      refine bodyPost_ret (v := .tuple #[.string T, .agg #[.int .i64 0, .int .i64 0]]) (by simp [results, Tryz.results25, go_sem, f0, f1]) rfl ⟨by rw [HRR.out, ← HTT.out]; rfl, ?_⟩
      exact (DA.out.b.setCell (p := ⟨w.heap.size + 1, 0, none⟩) (Nat.le_succ _) _).setCell (p := ⟨w.heap.size + 1, 1, none⟩) (Nat.le_succ _) _
    | cons x zr =>
      have hvx : validRune x = true := List.all_eq_true.1 hvz x (List.mem_cons_self ..)
      have hvr : zr.all validRune = true := by rw [List.all_cons, Bool.and_eq_true] at hvz; exact hvz.2
      have hdec := pt.decode_ahead ha hpos hvx
      have han := pt.ahead_next ha
      have hl1 := (encodeRuneZ_length x).1
      have hxr := pt.valid_range hvx
      have hp : pos < s.size := by simp [pt.nums] at hal; omega
      have hpe : pos + (encodeRuneZ x).length ≤ s.size := by simp [pt.nums] at hal; omega
      have hnx : ∀ ty, (Instr.next (.pointer (some ⟨(w2.heap.size + 1), 0, none⟩)) true ty).run Tryz.prog wr = _ := fun ty => run_next_any_at wr (w2.heap.size + 1) s pos ty HIT.out hp
      rw [hdec] at hnx
      simp only at hnx
      rw [show ((x.toNat : Nat) : Int) = x by omega] at hnx
      have H1 := Lib.hid (iterAt_heap wr (w2.heap.size + 1) s pos (pos + (encodeRuneZ x).length) HIT.out)
      have O1 := Lib.hid (own_iter HOW.out HIT.out s (pos + (encodeRuneZ x).length))
      have D1' := Lib.hid (Dc.of (c := c') HX.out (below_iterAt DA.out.g hitle s (pos + (encodeRuneZ x).length)))
      have hrv : ∀ W, TE TBr W X (tbl c) → Calls Tryz.prog 52 #[.agg #[X], .int .i32 x] W fun e w' => e = .returned (.tuple #[.int .i64 (if byte c x < 0 then 0 else byte c x), .bool (!decide (byte c x < 0))]) ∧ Below W.heap.size W w' := fun W hW => by
        have h := tbr_reverse W X _ x hW (by rw [tbl_len]; decide)
        rwa [rev_tbl] at h
      have hq := HQ.out
      have HAN := Lib.hid han; have HVR := Lib.hid hvr
      obtain ⟨⟨_, k0, k1, k2, _⟩, ⟨_, f0, f1, f2, f3⟩, _, _⟩ := D1'.out
      have HIB2 : Hid ((w2.heap.size + 1) < wr.heap.size) := Lib.hid (Array.getElem?_eq_some_iff.1 HIT.out).1
      clear hi hown hD ha hvz hvr hal hdec han hvx
      generalize hL : (encodeRuneZ x).length = L at *
      rcases byte_cases c x with ⟨hb, _⟩ | ⟨k, hb, hk, _⟩
      · rw [senc_cons_bad (by omega), List.append_nil] at hq
        rw [hb] at hrv
        have HRR := Lib.hid hq; have HRV := Lib.hid hrv
        clear hq hrv hb hL
        go_wp2_with (go_at_call 52; refine (HRV.out _ D1'.out.t).mono ?_; rintro e3 w3 ⟨rfl, hb3⟩; have D3 := Lib.hid (D1'.out.below hb3); clear hb3; obtain ⟨_, ⟨_, g0, g1, g2, g3⟩, _, _⟩ := D3.out)
        refine bodyPost_ret (v := .tuple #[.string ⟨#[]⟩, .agg #[.int .i64 6, .int .i64 pos]]) (by simp [results, Tryz.results25, go_sem, g0, g1]) rfl ⟨by rw [HRR.out]; rfl, ?_⟩
        exact (D3.out.b.setCell (p := ⟨w.heap.size + 1, 0, none⟩) (Nat.le_succ _) _).setCell (p := ⟨w.heap.size + 1, 1, none⟩) (Nat.le_succ _) _
      · rw [senc_cons_good hb] at hq
        rw [hb] at hrv
        rw [hL] at hq
        have e1 : (if (k : Int) < 0 then (0 : Int) else (k : Int)) = (k : Int) := if_neg (by omega)
        have e2 : (!decide ((k : Int) < 0)) = true := by simp
        rw [e1, e2] at hrv
        have hu8 : IntKind.u8.wrap (k : Int) = (k : Int) := by simp [IntKind.wrap, IntKind.bits, IntKind.signed]; omega
        have hbv : bv (pre ++ [UInt8.ofNat k]) = bv pre ++ [.int .u8 (k : Int)] := by simp [bv, UInt8.toNat_ofNat_of_lt' (show k < UInt8.size by exact hk)]
        have HRR := Lib.hid hq; have HRV := Lib.hid hrv; have HBV := Lib.hid hbv
        clear hq hrv hb hL e1 e2 hbv
        obtain ⟨i0, hi0, hzz⟩ := Option.map_eq_some_iff.1 pt.byte_info
        simp only [Prod.mk.injEq] at hzz
        obtain ⟨hz, hsi, hby⟩ := hzz
        go_wp2_with (first | (go_at_call 52; refine (HRV.out _ D1'.out.t).mono ?_; rintro e3 w3 ⟨rfl, hb3⟩; have D3 := Lib.hid (D1'.out.below hb3); have O3 := Lib.hid (pt.owns_below O1.out hb3); have HB3 := Lib.hid hb3; clear hb3) | (at_builtin; refine wpList_append_own _ rfl _ _ 66 rfl (w.heap.size + 1 + 1) 5 i0 (.int .u8 0) 1 1 Tryz.underlying66 hi0 hz hsi hby rfl (by decide) _ _ _ rfl (O3.out.alloc _) ⟨w3.heap.size, 0, none⟩ 1 1 [.int .u8 (k : Int)] rfl rfl ?c1 ?c2 ?c3 ?c4 ?c5 ?_))
        case c1 =>
          intro j u hj
          match j, hj with
          | 0, hj =>
            simp at hj
            subst hj
            have e : (⟨w3.heap.size, 0, none⟩ : Addr).add 0 = ⟨w3.heap.size, 0, none⟩ := by simp [Addr.add]
            rw [e, World.cell?_alloc_mark]; rfl
          | (j + 1), hj => simp at hj
        case c2 => intro u hu; simp at hu; subst hu; rfl
        case c3 => unfold maxLen; omega
        case c4 => omega
        case c5 => have := D3.out.le; simp; omega
        intro v' w4 hown4 hgrow _
        have HO4 := Lib.hid hown4
        have hsz3 : w2.heap.size + 1 < w3.heap.size := Nat.lt_of_lt_of_le (by rw [iterAt_size]; exact HIB2.out) HB3.out.size
        have i3 : w3.heap[w2.heap.size + 1]? = some (.stringIter s (pos + L)) := (HB3.out.block _ (by rw [iterAt_size]; exact HIB2.out)).trans H1.out
        have i4 : w4.heap[w2.heap.size + 1]? = some (.stringIter s (pos + L)) := by
          rw [hgrow.block _ (by simp; omega) (fun e => kind_it O3.out i3 e.symm), Below.heap_alloc _ _ _ (by omega)]
          exact i3
        have DE := Lib.hid (Dc.of (c := c') HX.out (pt.below_grown D3.out.g D3.out.le O3.out hgrow))
        have HI4 := Lib.hid i4
        clear hown4 i3 i4
        go_wp2_with fail
        go_roundw
        case rel => exact ⟨pos + L, zr, pre ++ [UInt8.ofNat k], HI4.out, hpe, by rw [List.length_append, List.length_singleton]; omega, HAN.out, HVR.out, by rw [HRR.out, List.append_assoc]; rfl, by rw [HBV.out, List.length_append]; exact HO4.out, DE.out⟩
        case measure => rw [iterPos_of HI4.out, iterPos_of HIT.out]; omega
end Go.Proofs.YtbgbgigpcegenaaGreatDoor.sg
namespace Go.Proofs.YtbgbgigpcegenaaGreatDoor.sg
open Go.RowKit Go.Lib
open Go.Proofs.YtbgbgigpcegenaaGreatDoor.tb
set_option linter.unusedVariables false
theorem k2z (w : World) : K2 (w.alloc (.cells #[.slice none 0 0, .int .i64 0] 50)) w.heap.size 50 (.slice none 0 0) (.int .i64 0) := k2_new w _ _ _
set_option maxRecDepth 100000 in
set_option maxHeartbeats 8000000 in
theorem awake_walk (w : World) (hT : pt.Tabs w) : Calls Tryz.prog 28 #[] w fun e w' => e = .returned (.bool true) ∧ Below w.heap.size w w' := by
  have HT := Lib.hid hT
  have HB := Lib.hid (Below.refl w.heap.size w)
  have HD : Hid (∀ W X, TE TBr W X (tbl 1) → Calls Tryz.prog 22 #[.agg #[X, .int .i64 1], .string ⟨#[193, 194]⟩] W fun e w' => e = .returned (.tuple #[.string ⟨#[208, 176, 208, 177]⟩, .agg #[.int .i64 0, .int .i64 0]]) ∧ Below W.heap.size W w') := Lib.hid (fun W X h => (decode_any 1 1 X ⟨#[193, 194]⟩ W (by decide) (by decide) (by decide) h).mono fun e w' hh => ⟨by rw [hh.1, show pt.txt (sdec 1 (⟨#[193, 194]⟩ : ByteArray).data.toList) = ⟨#[208, 176, 208, 177]⟩ from by kernel_rfl], hh.2⟩)
  have HE : Hid (∀ W X, pt.Tabs W → TE TBr W X (tbl 0) → Calls Tryz.prog 25 #[.agg #[X, .int .i64 0], .string ⟨#[208, 132]⟩] W fun e w' => e = .returned (.tuple #[.string ⟨#[]⟩, .agg #[.int .i64 6, .int .i64 0]]) ∧ Below W.heap.size W w') := Lib.hid (fun W X hW h => by
    have hh := encode_good 0 0 X [1028] W (by decide) (by decide) (by decide +kernel) (by decide) h hW
    rw [show pt.txt [1028] = ⟨#[208, 132]⟩ from by kernel_rfl, show senc 0 0 [1028] = ([], some 0) from by kernel_rfl] at hh
    exact hh)
  have HA2 := Lib.hid (fun w2 h2 => pt.Awake_any w2 h2)
  have HA4 := Lib.hid (fun w2 h2 => tb.awake_walk w2 h2)
  have HBD : Hid (∀ W, Calls Tryz.prog 11 #[.agg #[.int .i64 0, .int .i64 0]] W fun e w' => e = .returned (.bool false) ∧ Below W.heap.size W w') := Lib.hid (fun W => pt.bad_any W 0 0)
  clear hT
  go_enter Tryz.func28, Tryz.ntmps28
  go_wp2_with (first
    | (go_at_call 20; (with_reducible refine (of_any 1 _ (HT.out.below HB.out) (by decide) (by decide)).mono ?_); rintro e1 w1 ⟨X, rfl, hx, hb1⟩; have hA : Below w1.heap.size w1 (w1.alloc (.cells #[X, .int .i64 1] 50)) := (Below.refl _ _).alloc (Nat.le_refl _) _; have hst := (fun wx (a : Addr) m => run_store (P := Tryz.prog) (w := wx) (a := a) X m (TE.one hx)); have B1 := Lib.hid ((HB.out.trans (hb1.mono HB.out.size)).trans (hA.mono (Nat.le_trans HB.out.size hb1.size))); have X1 := Lib.hid (te_below hx hA); obtain ⟨_, z0, z1, z2, _⟩ := k2z w1; obtain ⟨_, y0, y1, y2, _⟩ := k2_new w1 50 X (.int .i64 1); clear hx hb1 hA)
    | (go_at_call 22; (with_reducible refine (HD.out _ X X1.out).mono ?_); rintro e2 w2 ⟨rfl, hb2⟩; have hA : Below w2.heap.size w2 (w2.alloc (.cells #[.int .i64 0, .int .i64 0] 32)) := (Below.refl _ _).alloc (Nat.le_refl _) _; have B2 := Lib.hid ((B1.out.trans (hb2.mono B1.out.size)).trans (hA.mono (Nat.le_trans B1.out.size hb2.size))); have F2 := Lib.hid (pt.f2_new w2 0 0 32); obtain ⟨_, v0, v1, v2, v3⟩ := F2.out; clear hb2 hA)
    | (go_at_call 20; (with_reducible refine (of_any 0 _ (HT.out.below B2.out) (by decide) (by decide)).mono ?_); rintro e3 w3 ⟨Y, rfl, hy, hb3⟩; have hA : Below w3.heap.size w3 (w3.alloc (.cells #[Y, .int .i64 0] 50)) := (Below.refl _ _).alloc (Nat.le_refl _) _; have hst2 := (fun wx (a : Addr) m => run_store (P := Tryz.prog) (w := wx) (a := a) Y m (TE.one hy)); have B3 := Lib.hid ((B2.out.trans (hb3.mono B2.out.size)).trans (hA.mono (Nat.le_trans B2.out.size hb3.size))); have F3 := Lib.hid ((F2.out.below hb3 F2.out.lt).below hA (Nat.lt_of_lt_of_le F2.out.lt hb3.size)); have Y1 := Lib.hid (te_below hy hA); obtain ⟨_, p0, p1, p2, _⟩ := k2z w3; obtain ⟨_, q0, q1, q2, _⟩ := k2_new w3 50 Y (.int .i64 0); clear hy hb3 hA)
    | (go_at_call 25; (with_reducible refine (HE.out _ Y (HT.out.below B3.out) Y1.out).mono ?_); rintro e4 w4 ⟨rfl, hb4⟩; have hA : Below w4.heap.size w4 (w4.alloc (.cells #[.int .i64 6, .int .i64 0] 32)) := (Below.refl _ _).alloc (Nat.le_refl _) _; have B4 := Lib.hid ((B3.out.trans (hb4.mono B3.out.size)).trans (hA.mono (Nat.le_trans B3.out.size hb4.size))); have F4 := Lib.hid ((F3.out.below hb4 F3.out.lt).below hA (Nat.lt_of_lt_of_le F3.out.lt hb4.size)); have E4 := Lib.hid (pt.f2_new w4 6 0 32); obtain ⟨_, r0, r1, r2, r3⟩ := pt.f2_new w4 0 0 32; clear hb4 hA)
    | (go_at_call 27; (with_reducible refine (HA2.out _ (HT.out.below B4.out)).mono ?_); rintro e5 w5 ⟨rfl, hb5⟩; have B5 := Lib.hid (B4.out.trans (hb5.mono B4.out.size)); have F5 := Lib.hid (F4.out.below hb5 F4.out.lt); have E5 := Lib.hid (E4.out.below hb5 E4.out.lt); clear hb5)
    | (go_at_call 54; (with_reducible refine (HA4.out _ (HT.out.below B5.out)).mono ?_); rintro e6 w6 ⟨rfl, hb6⟩; have B6 := Lib.hid (B5.out.trans (hb6.mono B5.out.size)); have F6 := Lib.hid (F5.out.below hb6 F5.out.lt); have E6 := Lib.hid (E5.out.below hb6 E5.out.lt); obtain ⟨_, s0, s1, _, _⟩ := F6.out; clear hb6)
    | (go_at_call 11; (with_reducible refine (HBD.out _).mono ?_); rintro e7 w7 ⟨rfl, hb7⟩; have B7 := Lib.hid (B6.out.trans (hb7.mono B6.out.size)); have E7 := Lib.hid (E6.out.below hb7 E6.out.lt); obtain ⟨_, t0, t1, _, _⟩ := E7.out; clear hb7))
  go_ret
  exact ⟨rfl, B7.out⟩
end Go.Proofs.YtbgbgigpcegenaaGreatDoor.sg
namespace Go.Proofs.YtbgbgigpcegenaaGreatDoor.sg
open Go.RowKit Go.Lib
open Go.Proofs.YtbgbgigpcegenaaGreatDoor.tb
set_option linter.unusedVariables false
/-- What stands once a charset is made and laid. -/
structure Lw (w : World) (b : Nat) (X : Value) (c : Int) (l : List (Int × Int)) (W : World) : Prop where
  s : K2 W b 50 X (.int .i64 c)
  t : TE TBr W X l
  b : Below w.heap.size w W
theorem Lw.below {w : World} {b : Nat} {X : Value} {c : Int} {l : List (Int × Int)} {W W' : World} (h : Lw w b X c l W) (hb : Below W.heap.size W W') : Lw w b X c l W' :=
  ⟨h.s.below hb h.s.lt, te_below h.t hb, h.b.trans (hb.mono h.b.size)⟩
theorem Lw.new {w W : World} {X : Value} {c : Int} {l : List (Int × Int)} (hb : Below w.heap.size w W) (ht : TE TBr W X l) : Lw w W.heap.size X c l (W.alloc (.cells #[X, .int .i64 c] 50)) := by
  have hA : Below W.heap.size W (W.alloc (.cells #[X, .int .i64 c] 50)) := (Below.refl _ _).alloc (Nat.le_refl _) _
  exact ⟨k2_new _ _ _ _, te_below ht hA, hb.trans (hA.mono hb.size)⟩
end Go.Proofs.YtbgbgigpcegenaaGreatDoor.sg
namespace Go.Proofs.YtbgbgigpcegenaaGreatDoor.ch
open Go.RowKit Go.Lib
set_option linter.unusedVariables false
theorem none_any (w : World) : Calls Tryz.prog 21 #[] w fun e w' => e = .returned (.agg #[.int .i64 5, .int .i64 0]) ∧ Below w.heap.size w w' := by
  go_enter Tryz.func21, Tryz.ntmps21
  go_wp2
  exact bodyPost_ret (v := .agg #[.int .i64 5, .int .i64 0]) (by simp [results, Tryz.results21, go_sem]) rfl ⟨rfl, by repeat (first | (with_reducible exact Below.refl _ _) | (with_reducible refine Below.setCell ?_ (by simp) _) | (with_reducible refine Below.alloc ?_ (by simp) _))⟩
theorem f2_low {w W : World} {x y : Int} {t : TypeId} (hb : Below (w.heap.size + 1) (w.alloc (.cells #[.int .i64 x, .int .i64 y] t)) W) : pt.F2 W w.heap.size x y ∧ Below w.heap.size w W :=
  ⟨(pt.f2_new w x y t).below hb (by omega), ((Below.refl w.heap.size w).alloc (Nat.le_refl _) _).trans (hb.mono (by omega))⟩
set_option maxRecDepth 100000 in
set_option maxHeartbeats 2000000 in
theorem signs_good (t : ByteArray) (w : World) (hT : pt.Tabs w) (ht : t.size ≤ 4000) (h : (pt.scan t).2 = none) : Calls Tryz.prog 18 #[.string t] w fun e w' => e = .returned (.tuple #[.string t, .agg #[.int .i64 0, .int .i64 0]]) ∧ Below w.heap.size w w' := by
  have hA : Below w.heap.size w (w.alloc (.cells #[.int .i64 0, .int .i64 0] 32)) := (Below.refl _ _).alloc (Nat.le_refl _) _
  have hc := pt.check_any t (w.alloc (.cells #[.int .i64 0, .int .i64 0] 32)) (by omega) (hT.below hA)
  rw [h, World.size_alloc] at hc
  have HC : Hid (Calls Tryz.prog 43 #[.string t] (w.alloc (.cells #[.int .i64 0, .int .i64 0] 32)) fun e w' => e = .returned (.agg #[.int .i64 0, .int .i64 0]) ∧ Below (w.heap.size + 1) (w.alloc (.cells #[.int .i64 0, .int .i64 0] 32)) w') := Lib.hid hc
  have HBD : Hid (∀ W, Calls Tryz.prog 11 #[.agg #[.int .i64 0, .int .i64 0]] W fun e w' => e = .returned (.bool false) ∧ Below W.heap.size W w') := Lib.hid (fun W => pt.bad_any W 0 0)
  clear hc hA h hT
  go_enter Tryz.func18, Tryz.ntmps18
  go_wp2_with (first
    | (go_at_call 43; refine HC.out.mono ?_; rintro e1 w1 ⟨rfl, hb1⟩; have hA : Below w1.heap.size w1 (w1.alloc (.cells #[.int .i64 0, .int .i64 0] 32)) := (Below.refl _ _).alloc (Nat.le_refl _) _; have Q1 := Lib.hid (f2_low hb1); have F1 := Lib.hid (Q1.out.1.below hA Q1.out.1.lt); have B1 := Lib.hid (Q1.out.2.trans (hA.mono Q1.out.2.size)); obtain ⟨_, z0, z1, z2, z3⟩ := pt.f2_new w1 0 0 32; clear hb1 hA)
    | (go_at_call 11; refine (HBD.out _).mono ?_; rintro e2 w2 ⟨rfl, hb2⟩; obtain ⟨_, c0, c1, f0, f1⟩ := F1.out.below hb2 F1.out.lt; have B2 := Lib.hid (B1.out.trans (hb2.mono B1.out.size)); clear hb2))
  have HB2 := B2.out
  exact bodyPost_ret (v := .tuple #[.string t, .agg #[.int .i64 0, .int .i64 0]]) (by simp [results, Tryz.results18, go_sem, c0, c1]) rfl ⟨rfl, by repeat (first | (with_reducible exact HB2) | (with_reducible exact Below.refl _ _) | (with_reducible refine Below.setCell ?_ (by simp) _) | (with_reducible refine Below.alloc ?_ (by simp; omega) _))⟩
set_option maxRecDepth 100000 in
set_option maxHeartbeats 2000000 in
theorem signs_bad (t : ByteArray) (p : Nat) (w : World) (hT : pt.Tabs w) (ht : t.size ≤ 4000) (h : (pt.scan t).2 = some p) : Calls Tryz.prog 18 #[.string t] w fun e w' => e = .returned (.tuple #[.string ⟨#[]⟩, .agg #[.int .i64 2, .int .i64 (p : Int)]]) ∧ Below w.heap.size w w' := by
  have hA : Below w.heap.size w (w.alloc (.cells #[.int .i64 0, .int .i64 0] 32)) := (Below.refl _ _).alloc (Nat.le_refl _) _
  have hc := pt.check_any t (w.alloc (.cells #[.int .i64 0, .int .i64 0] 32)) (by omega) (hT.below hA)
  rw [h, World.size_alloc] at hc
  have HC : Hid (Calls Tryz.prog 43 #[.string t] (w.alloc (.cells #[.int .i64 0, .int .i64 0] 32)) fun e w' => e = .returned (.agg #[.int .i64 2, .int .i64 (p : Int)]) ∧ Below (w.heap.size + 1) (w.alloc (.cells #[.int .i64 0, .int .i64 0] 32)) w') := Lib.hid hc
  have HBD : Hid (∀ W, Calls Tryz.prog 11 #[.agg #[.int .i64 2, .int .i64 (p : Int)]] W fun e w' => e = .returned (.bool true) ∧ Below W.heap.size W w') := Lib.hid (fun W => pt.bad_any W 2 p)
  clear hc hA h hT
  generalize (p : Int) = PI at *
  go_enter Tryz.func18, Tryz.ntmps18
  go_wp2_with (first
    | (go_at_call 43; refine HC.out.mono ?_; rintro e1 w1 ⟨rfl, hb1⟩; have hA : Below w1.heap.size w1 (w1.alloc (.cells #[.int .i64 2, .int .i64 PI] 32)) := (Below.refl _ _).alloc (Nat.le_refl _) _; have Q1 := Lib.hid (f2_low hb1); have F1 := Lib.hid (Q1.out.1.below hA Q1.out.1.lt); have B1 := Lib.hid (Q1.out.2.trans (hA.mono Q1.out.2.size)); have hlt := Q1.out.1.lt; have G1 := Lib.hid (pt.f2_new w1 2 PI 32); obtain ⟨_, z0, z1, z2, z3⟩ := G1.out; clear hb1 hA)
    | (go_at_call 11; refine (HBD.out _).mono ?_; rintro e2 w2 ⟨rfl, hb2⟩; obtain ⟨_, c0, c1, f0, f1⟩ := F1.out.below hb2 F1.out.lt; obtain ⟨_, g0, g1, _, _⟩ := G1.out.below hb2 G1.out.lt; have B2 := Lib.hid (B1.out.trans (hb2.mono B1.out.size)); clear hb2))
  have n0 : ¬ w.heap.size = w1.heap.size := by omega
  have n1 : ¬ w1.heap.size = w.heap.size := by omega
  go_region_held3 (fun w' => w'.cell? ⟨w1.heap.size, 0, none⟩ = some (.int .i64 2) ∧ w'.cell? ⟨w1.heap.size, 1, none⟩ = some (.int .i64 PI)) (go_keep) (fail)
  all_goals go_wp2_with fail
  all_goals
    have HB2 := B2.out
    exact bodyPost_ret (v := .tuple #[.string ⟨#[]⟩, .agg #[.int .i64 2, .int .i64 PI]]) (by simp [results, Tryz.results18, go_sem, c0, c1]) rfl ⟨rfl, by refine Below.drew ?_; repeat (first | (with_reducible exact HB2) | (with_reducible exact Below.refl _ _) | (with_reducible refine Below.setCell ?_ (by simp) _) | (with_reducible refine Below.alloc ?_ (by simp; omega) _))⟩
theorem dz_7 (t : ByteArray) : dz 7 t = (pt.zsOf t, (pt.scan t).2) := by unfold dz; rw [if_neg (by omega), if_pos rfl]
theorem dz_8 (t : ByteArray) : dz 8 t = wd.wscan t false := by unfold dz; rw [if_neg (by omega), if_neg (by omega), if_pos (by omega)]; rfl
theorem dz_9 (t : ByteArray) : dz 9 t = wd.wscan t true := by unfold dz; rw [if_neg (by omega), if_neg (by omega), if_pos (by omega)]; rfl
theorem dz_3 {c : Int} (h : c ≤ 3) (t : ByteArray) : dz c t = (sg.sdec c t.data.toList, none) := by unfold dz; rw [if_pos h]
/-- What Decode answers, of what dz says. -/
theorem dc_of {c : Int} {s : ByteArray} (hc : inC c) : dcT c s = wd.wt (dz c s) ∧ dcE c s = pt.fe (dz c s).2 ∧ dcA c s = pt.fa (dz c s).2 := by
  cases h : (dz c s).2 with
  | none =>
    obtain ⟨e1, e2, e3⟩ := dok hc h
    refine ⟨?_, e2, e3⟩
    unfold wd.wt
    rw [h]; exact e1
  | some p =>
    obtain ⟨e1, e2, e3⟩ := dbad hc h
    refine ⟨?_, e2, e3⟩
    unfold wd.wt
    rw [h]; exact e1
set_option maxRecDepth 100000 in
set_option maxHeartbeats 4000000 in
theorem Decode_any (c : Int) (t : ByteArray) (w : World) (hK : K9 w) (ht : t.size ≤ 4000) :
    Calls Tryz.prog 9 #[.int .i64 c, .string t] w fun e w' => e = .returned (.tuple #[.string (dcT c t), .agg #[.int .i64 (dcE c t), .int .i64 (dcA c t)]]) ∧ Below w.heap.size w w' := by
  have hA : Below w.heap.size w (w.alloc (.cells #[.int .i64 0, .int .i64 0] 32)) := (Below.refl _ _).alloc (Nat.le_refl _) _
  have K1 := Lib.hid (hK.below hA)
  clear hA hK
  by_cases h3 : 0 ≤ c ∧ c ≤ 3
  · obtain ⟨h0, h3⟩ := h3
    have HOF := Lib.hid (fun w2 h2 => sg.of_any c w2 h2 h0 h3)
    have HD := Lib.hid (fun W X h => sg.decode_any c c X t W h0 h3 ht h)
    have hin : inC c := ⟨h0, by omega⟩
    have hz : (dz c t).2 = none := by rw [dz_3 h3]
    obtain ⟨e1, e2, e3⟩ := dok hin hz
    rw [dz_3 h3] at e1
    rw [e1, e2, e3]
    clear e1 e2 e3 hz hin
    generalize pt.txt (sg.sdec c t.data.toList) = T at *
    have n4 : ¬ c = 4 := by omega
    have n5 : ¬ c = 5 := by omega
    have n6 : ¬ c = 6 := by omega
    have n7 : ¬ c = 7 := by omega
    have n8 : ¬ c = 8 := by omega
    have n9 : ¬ c = 9 := by omega
    have m4 := beq_eq_false_iff_ne.2 n4; have m5 := beq_eq_false_iff_ne.2 n5; have m6 := beq_eq_false_iff_ne.2 n6; have m7 := beq_eq_false_iff_ne.2 n7; have m8 := beq_eq_false_iff_ne.2 n8; have m9 := beq_eq_false_iff_ne.2 n9
    go_enter Tryz.func9, Tryz.ntmps9
    go_wp2_with (first
      | (go_at_call 20; (with_reducible refine (HOF.out _ K1.out.t).mono ?_); rintro e1 w1 ⟨X, rfl, hx, hb1⟩; rw [World.size_alloc] at hb1; have hst := (fun wx (a : Addr) m => run_store (P := Tryz.prog) (w := wx) (a := a) X m (tb.TE.one hx)); have Q1 := Lib.hid (f2_low hb1); have hA : Below w1.heap.size w1 (w1.alloc (.cells #[X, .int .i64 c] 50)) := (Below.refl _ _).alloc (Nat.le_refl _) _; have F1 := Lib.hid (Q1.out.1.below hA Q1.out.1.lt); have LL := Lib.hid (sg.Lw.new (c := c) Q1.out.2 hx); obtain ⟨_, z0, z1, z2, _⟩ := sg.k2z w1; obtain ⟨⟨_, y0, y1, y2, _⟩, _, _⟩ := LL.out; have hlt := Q1.out.1.lt; clear hx hb1 hA)
      | (go_at_call 22; (with_reducible refine (HD.out _ X LL.out.t).mono ?_); rintro e2 w2 ⟨rfl, hb2⟩; have LL := Lib.hid (LL.out.below hb2); obtain ⟨_, c0, c1, f0, f1⟩ := F1.out.below hb2 F1.out.lt; clear hb2))
    have HB := LL.out.b
    exact bodyPost_ret (v := .tuple #[.string T, .agg #[.int .i64 0, .int .i64 0]]) (by simp [results, Tryz.results9, go_sem, c0, c1]) rfl ⟨rfl, by repeat (first | (with_reducible exact HB) | (with_reducible exact Below.refl _ _) | (with_reducible refine Below.setCell ?_ (by simp) _) | (with_reducible refine Below.alloc ?_ (by simp; omega) _))⟩
  by_cases h6 : c = 4 ∨ c = 5 ∨ c = 6
  · have HP := Lib.hid (fun W h => pairs_any c t W h h6 ht)
    generalize dcT c t = T at *
    generalize dcE c t = E at *
    generalize dcA c t = A at *
    clear h3
    rcases h6 with rfl | rfl | rfl
    all_goals
      go_enter Tryz.func9, Tryz.ntmps9
      go_wp2_with (go_at_call 17; refine (HP.out _ K1.out).mono ?_; rintro e1 w1 ⟨rfl, hb1⟩; rw [World.size_alloc] at hb1; have Q1 := Lib.hid (f2_low hb1); obtain ⟨_, c0, c1, f0, f1⟩ := Q1.out.1; clear hb1)
      have HB := Q1.out.2
      exact bodyPost_ret (v := .tuple #[.string T, .agg #[.int .i64 E, .int .i64 A]]) (by simp [results, Tryz.results9, go_sem, c0, c1]) rfl ⟨rfl, by repeat (first | (with_reducible exact HB) | (with_reducible exact Below.refl _ _) | (with_reducible refine Below.setCell ?_ (by simp) _) | (with_reducible refine Below.alloc ?_ (by simp; omega) _))⟩
  by_cases h7 : c = 7
  · subst h7
    have hin : inC 7 := ⟨by omega, by omega⟩
    cases h : (pt.scan t).2 with
    | none =>
      have hz : (dz 7 t).2 = none := by rw [dz_7]; exact h
      obtain ⟨e1, e2, e3⟩ := dok hin hz
      rw [dz_7, pt.txt_back t h] at e1
      rw [e1, e2, e3]
      have HP := Lib.hid (fun W hW => signs_good t W hW ht h)
      clear e1 e2 e3 hz hin h h3 h6
      go_enter Tryz.func9, Tryz.ntmps9
      go_wp2_with (go_at_call 18; refine (HP.out _ K1.out.t).mono ?_; rintro e1 w1 ⟨rfl, hb1⟩; rw [World.size_alloc] at hb1; have Q1 := Lib.hid (f2_low hb1); obtain ⟨_, c0, c1, f0, f1⟩ := Q1.out.1; clear hb1)
      have HB := Q1.out.2
      exact bodyPost_ret (v := .tuple #[.string t, .agg #[.int .i64 0, .int .i64 0]]) (by simp [results, Tryz.results9, go_sem, c0, c1]) rfl ⟨rfl, by repeat (first | (with_reducible exact HB) | (with_reducible exact Below.refl _ _) | (with_reducible refine Below.setCell ?_ (by simp) _) | (with_reducible refine Below.alloc ?_ (by simp; omega) _))⟩
    | some p =>
      have hz : (dz 7 t).2 = some p := by rw [dz_7]; exact h
      obtain ⟨e1, e2, e3⟩ := dbad hin hz
      rw [e1, e2, e3]
      have HP := Lib.hid (fun W hW => signs_bad t p W hW ht h)
      clear e1 e2 e3 hz hin h h3 h6
      generalize (p : Int) = PI at *
      go_enter Tryz.func9, Tryz.ntmps9
      go_wp2_with (go_at_call 18; refine (HP.out _ K1.out.t).mono ?_; rintro e1 w1 ⟨rfl, hb1⟩; rw [World.size_alloc] at hb1; have Q1 := Lib.hid (f2_low hb1); obtain ⟨_, c0, c1, f0, f1⟩ := Q1.out.1; clear hb1)
      have HB := Q1.out.2
      exact bodyPost_ret (v := .tuple #[.string ⟨#[]⟩, .agg #[.int .i64 2, .int .i64 PI]]) (by simp [results, Tryz.results9, go_sem, c0, c1]) rfl ⟨rfl, by repeat (first | (with_reducible exact HB) | (with_reducible exact Below.refl _ _) | (with_reducible refine Below.setCell ?_ (by simp) _) | (with_reducible refine Below.alloc ?_ (by simp; omega) _))⟩
  by_cases h8 : c = 8 ∨ c = 9
  · have HW := Lib.hid (fun big W => wd.Decode_any t big W (by omega))
    have HZ : Hid (c = 8 → dcT c t = wd.wt (wd.wscan t false) ∧ dcE c t = pt.fe (wd.wscan t false).2 ∧ dcA c t = pt.fa (wd.wscan t false).2) := Lib.hid (fun h => by subst h; rw [← dz_8]; exact dc_of ⟨by omega, by omega⟩)
    have HY : Hid (c = 9 → dcT c t = wd.wt (wd.wscan t true) ∧ dcE c t = pt.fe (wd.wscan t true).2 ∧ dcA c t = pt.fa (wd.wscan t true).2) := Lib.hid (fun h => by subst h; rw [← dz_9]; exact dc_of ⟨by omega, by omega⟩)
    rcases h8 with rfl | rfl
    · obtain ⟨e1, e2, e3⟩ := HZ.out rfl
      rw [e1, e2, e3]
      have HP := Lib.hid (fun W => HW.out false W)
      clear e1 e2 e3 HZ HY HW h3 h6 h7
      generalize wd.wt (wd.wscan t false) = T at *
      generalize pt.fe (wd.wscan t false).2 = E at *
      generalize pt.fa (wd.wscan t false).2 = A at *
      go_enter Tryz.func9, Tryz.ntmps9
      go_wp2_with (go_at_call 19; refine (HP.out _).mono ?_; rintro e1 w1 ⟨rfl, hb1⟩; rw [World.size_alloc] at hb1; have Q1 := Lib.hid (f2_low hb1); obtain ⟨_, c0, c1, f0, f1⟩ := Q1.out.1; clear hb1)
      have HB := Q1.out.2
      exact bodyPost_ret (v := .tuple #[.string T, .agg #[.int .i64 E, .int .i64 A]]) (by simp [results, Tryz.results9, go_sem, c0, c1]) rfl ⟨rfl, by repeat (first | (with_reducible exact HB) | (with_reducible exact Below.refl _ _) | (with_reducible refine Below.setCell ?_ (by simp) _) | (with_reducible refine Below.alloc ?_ (by simp; omega) _))⟩
    · obtain ⟨e1, e2, e3⟩ := HY.out rfl
      rw [e1, e2, e3]
      have HP := Lib.hid (fun W => HW.out true W)
      clear e1 e2 e3 HZ HY HW h3 h6 h7
      generalize wd.wt (wd.wscan t true) = T at *
      generalize pt.fe (wd.wscan t true).2 = E at *
      generalize pt.fa (wd.wscan t true).2 = A at *
      go_enter Tryz.func9, Tryz.ntmps9
      go_wp2_with (go_at_call 19; refine (HP.out _).mono ?_; rintro e1 w1 ⟨rfl, hb1⟩; rw [World.size_alloc] at hb1; have Q1 := Lib.hid (f2_low hb1); obtain ⟨_, c0, c1, f0, f1⟩ := Q1.out.1; clear hb1)
      have HB := Q1.out.2
      exact bodyPost_ret (v := .tuple #[.string T, .agg #[.int .i64 E, .int .i64 A]]) (by simp [results, Tryz.results9, go_sem, c0, c1]) rfl ⟨rfl, by repeat (first | (with_reducible exact HB) | (with_reducible exact Below.refl _ _) | (with_reducible refine Below.setCell ?_ (by simp) _) | (with_reducible refine Below.alloc ?_ (by simp; omega) _))⟩
  · have hin : ¬ inC c := fun h => by unfold inC at h; omega
    have e1 : dcT c t = ⟨#[]⟩ := by unfold dcT; rw [if_neg (fun h => hin h.1)]
    have e2 : dcE c t = 5 := by unfold dcE; rw [if_neg hin]
    have e3 : dcA c t = 0 := by unfold dcA; rw [if_neg hin]
    have HON := Lib.hid (fun w2 => sg.of_none c w2 (by omega))
    have HNO := Lib.hid (fun W => none_any W)
    rw [e1, e2, e3]
    have n4 : ¬ c = 4 := by omega
    have n5 : ¬ c = 5 := by omega
    have n6 : ¬ c = 6 := by omega
    have n7 : ¬ c = 7 := by omega
    have n8 : ¬ c = 8 := by omega
    have n9 : ¬ c = 9 := by omega
    have m4 := beq_eq_false_iff_ne.2 n4; have m5 := beq_eq_false_iff_ne.2 n5; have m6 := beq_eq_false_iff_ne.2 n6; have m7 := beq_eq_false_iff_ne.2 n7; have m8 := beq_eq_false_iff_ne.2 n8; have m9 := beq_eq_false_iff_ne.2 n9
    clear e1 e2 e3 hin h3 h6 h7 h8
    go_enter Tryz.func9, Tryz.ntmps9
    go_wp2_with (first
      | (go_at_call 20; (with_reducible refine (HON.out _).mono ?_); rintro e1 w1 ⟨rfl, hb1⟩; rw [World.size_alloc] at hb1; have Q1 := Lib.hid (f2_low hb1); have hA : Below w1.heap.size w1 (w1.alloc (.cells #[.slice none 0 0, .int .i64 0] 50)) := (Below.refl _ _).alloc (Nat.le_refl _) _; have F1 := Lib.hid (Q1.out.1.below hA Q1.out.1.lt); have B1 := Lib.hid (Q1.out.2.trans (hA.mono Q1.out.2.size)); obtain ⟨_, z0, z1, z2, _⟩ := sg.k2z w1; clear hb1 hA)
      | (go_at_call 21; refine (HNO.out _).mono ?_; rintro e2 w2 ⟨rfl, hb2⟩; obtain ⟨_, c0, c1, f0, f1⟩ := F1.out.below hb2 F1.out.lt; have B2 := Lib.hid (B1.out.trans (hb2.mono B1.out.size)); clear hb2))
    have HB := B2.out
    exact bodyPost_ret (v := .tuple #[.string ⟨#[]⟩, .agg #[.int .i64 5, .int .i64 0]]) (by simp [results, Tryz.results9, go_sem, c0, c1]) rfl ⟨rfl, by repeat (first | (with_reducible exact HB) | (with_reducible exact Below.refl _ _) | (with_reducible refine Below.setCell ?_ (by simp) _) | (with_reducible refine Below.alloc ?_ (by simp; omega) _))⟩
end Go.Proofs.YtbgbgigpcegenaaGreatDoor.ch
namespace Go.Proofs.YtbgbgigpcegenaaGreatDoor.ch
open Go.RowKit Go.Lib
set_option linter.unusedVariables false
/-- What all walks ask: the examples of the layers repeat (first | (with_reducible exact Below.refl _ _) | (with_reducible refine Below.setCell ?_ (by simp) _) | (with_reducible refine Below.alloc ?_ (by simp) _)), Decode, a name. -/
structure Ch (K : World → Prop) : Prop where
  stay : ∀ w w', K w → Below w.heap.size w w' → K w'
  a2 : ∀ w, K w → Calls Tryz.prog 27 #[] w fun e w' => e = .returned (.bool true) ∧ Below w.heap.size w w'
  a5 : ∀ w, K w → Calls Tryz.prog 28 #[] w fun e w' => e = .returned (.bool true) ∧ Below w.heap.size w w'
  a6 : ∀ w, K w → Calls Tryz.prog 29 #[] w fun e w' => e = .returned (.bool true) ∧ Below w.heap.size w w'
  a7 : ∀ w, K w → Calls Tryz.prog 30 #[] w fun e w' => e = .returned (.bool true) ∧ Below w.heap.size w w'
  a8 : ∀ w, K w → Calls Tryz.prog 31 #[] w fun e w' => e = .returned (.bool true) ∧ Below w.heap.size w w'
  dec : ∀ (c : Int) (s : ByteArray) w, K w → -9223372036854775808 ≤ c → c ≤ 9223372036854775807 → s.size ≤ 4000 → Calls Tryz.prog 9 #[.int .i64 c, .string s] w fun e w' => e = .returned (.tuple #[.string (dcT c s), .agg #[.int .i64 (dcE c s), .int .i64 (dcA c s)]]) ∧ Below w.heap.size w w'
  utf : ∀ w, K w → Calls Tryz.prog 26 #[.string ⟨#[85, 84, 70, 56]⟩] w fun e w' => e = .returned (.tuple #[.int .i64 7, .bool true]) ∧ Below w.heap.size w w'
/-- The world so far. -/
structure Kb (K : World → Prop) (w W : World) : Prop where
  k : K W
  b : Below w.heap.size w W
theorem Kb.below {K : World → Prop} (L : ∀ w w', K w → Below w.heap.size w w' → K w') {w W W' : World} (h : Kb K w W) (hb : Below W.heap.size W W') : Kb K w W' := ⟨L _ _ h.k hb, h.b.trans (hb.mono h.b.size)⟩
theorem ex_one : dcT 4 ⟨#[97, 176, 161]⟩ = ⟨#[97, 234, 176, 128]⟩ ∧ dcE 4 ⟨#[97, 176, 161]⟩ = 0 ∧ dcA 4 ⟨#[97, 176, 161]⟩ = 0 := by
  have h : dz 4 ⟨#[97, 176, 161]⟩ = ([97, 44032], none) := by decide +kernel
  have hi : inC 4 := by decide
  unfold dcT dcE dcA
  rw [h]
  simp only [hi, if_true, and_self]
  exact ⟨by decide +kernel, trivial⟩
theorem ex_two : dcT 4 ⟨#[97, 176]⟩ = ⟨#[]⟩ ∧ dcE 4 ⟨#[97, 176]⟩ = 2 ∧ dcA 4 ⟨#[97, 176]⟩ = 1 := by
  have h : dz 4 ⟨#[97, 176]⟩ = ([97], some 1) := by decide +kernel
  have hi : inC 4 := by decide
  unfold dcT dcE dcA
  rw [h]
  simp [hi]
set_option maxRecDepth 100000 in
set_option maxHeartbeats 4000000 in
theorem Awake_any {K : World → Prop} (L : Ch K) (w : World) (hK : K w) : Calls Tryz.prog 12 #[] w fun e w' => e = .returned (.bool true) ∧ Below w.heap.size w w' := by
  have HD1 : Hid (∀ W, K W → Calls Tryz.prog 9 #[.int .i64 4, .string ⟨#[97, 176, 161]⟩] W fun e w' => e = .returned (.tuple #[.string ⟨#[97, 234, 176, 128]⟩, .agg #[.int .i64 0, .int .i64 0]]) ∧ Below W.heap.size W w') := Lib.hid (fun W h => by
    have := L.dec 4 ⟨#[97, 176, 161]⟩ W h (by omega) (by omega) (by decide)
    rw [ex_one.1, ex_one.2.1, ex_one.2.2] at this
    exact this)
  have HD2 : Hid (∀ W, K W → Calls Tryz.prog 9 #[.int .i64 4, .string ⟨#[97, 176]⟩] W fun e w' => e = .returned (.tuple #[.string ⟨#[]⟩, .agg #[.int .i64 2, .int .i64 1]]) ∧ Below W.heap.size W w') := Lib.hid (fun W h => by
    have := L.dec 4 ⟨#[97, 176]⟩ W h (by omega) (by omega) (by decide)
    rw [ex_two.1, ex_two.2.1, ex_two.2.2] at this
    exact this)
  have HBD : Hid (∀ W, Calls Tryz.prog 11 #[.agg #[.int .i64 0, .int .i64 0]] W fun e w' => e = .returned (.bool false) ∧ Below W.heap.size W w') := Lib.hid (fun W => pt.bad_any W 0 0)
  have HL := Lib.hid L.stay; have H2 := Lib.hid L.a2; have H5 := Lib.hid L.a5; have H6 := Lib.hid L.a6; have H7 := Lib.hid L.a7; have H8 := Lib.hid L.a8; have HU := Lib.hid L.utf
  have K0 : Hid (Kb K w w) := Lib.hid ⟨hK, Below.refl _ _⟩
  clear L hK
  go_enter Tryz.func12, Tryz.ntmps12
  go_wp2_with (first
    | (go_at_call 27; refine (H2.out _ K3.out.k).mono ?_; rintro e4 w4 ⟨rfl, hb4⟩; have K4 := Lib.hid (K3.out.below HL.out hb4); have F2 := Lib.hid (F2.out.below hb4 F2.out.lt); have G2 := Lib.hid (G2.out.below hb4 G2.out.lt); obtain ⟨_, f0, f1, _, _⟩ := F2.out; obtain ⟨_, g0, g1, _, _⟩ := G2.out; clear hb4)
    | (go_at_call 28; refine (H5.out _ K4.out.k).mono ?_; rintro e4 w4 ⟨rfl, hb4⟩; have K4 := Lib.hid (K4.out.below HL.out hb4); have F2 := Lib.hid (F2.out.below hb4 F2.out.lt); have G2 := Lib.hid (G2.out.below hb4 G2.out.lt); obtain ⟨_, f0, f1, _, _⟩ := F2.out; obtain ⟨_, g0, g1, _, _⟩ := G2.out; clear hb4)
    | (go_at_call 29; refine (H6.out _ K4.out.k).mono ?_; rintro e4 w4 ⟨rfl, hb4⟩; have K4 := Lib.hid (K4.out.below HL.out hb4); have F2 := Lib.hid (F2.out.below hb4 F2.out.lt); have G2 := Lib.hid (G2.out.below hb4 G2.out.lt); obtain ⟨_, f0, f1, _, _⟩ := F2.out; obtain ⟨_, g0, g1, _, _⟩ := G2.out; clear hb4)
    | (go_at_call 30; refine (H7.out _ K4.out.k).mono ?_; rintro e4 w4 ⟨rfl, hb4⟩; have K4 := Lib.hid (K4.out.below HL.out hb4); have F2 := Lib.hid (F2.out.below hb4 F2.out.lt); have G2 := Lib.hid (G2.out.below hb4 G2.out.lt); obtain ⟨_, f0, f1, _, _⟩ := F2.out; obtain ⟨_, g0, g1, _, _⟩ := G2.out; clear hb4)
    | (go_at_call 31; refine (H8.out _ K4.out.k).mono ?_; rintro e4 w4 ⟨rfl, hb4⟩; have K4 := Lib.hid (K4.out.below HL.out hb4); have F2 := Lib.hid (F2.out.below hb4 F2.out.lt); have G2 := Lib.hid (G2.out.below hb4 G2.out.lt); obtain ⟨_, f0, f1, _, _⟩ := F2.out; obtain ⟨_, g0, g1, _, _⟩ := G2.out; clear hb4)
    | (go_at_call 11; refine (HBD.out _).mono ?_; rintro e4 w4 ⟨rfl, hb4⟩; have K4 := Lib.hid (K4.out.below HL.out hb4); have F2 := Lib.hid (F2.out.below hb4 F2.out.lt); have G2 := Lib.hid (G2.out.below hb4 G2.out.lt); obtain ⟨_, f0, f1, _, _⟩ := F2.out; obtain ⟨_, g0, g1, _, _⟩ := G2.out; clear hb4)
    | (go_at_call 26; refine (HU.out _ K2.out.k).mono ?_; rintro e3 w3 ⟨rfl, hb3⟩; have K3 := Lib.hid (K2.out.below HL.out hb3); have F2 := Lib.hid (F2.out.below hb3 F2.out.lt); have G2 := Lib.hid (G2.out.below hb3 G2.out.lt); obtain ⟨_, f0, f1, _, _⟩ := F2.out; obtain ⟨_, g0, g1, _, _⟩ := G2.out; clear hb3)
    | (go_at_call 9; (with_reducible refine (HD2.out _ K1.out.k).mono ?_); rintro e2 w2 ⟨rfl, hb2⟩; have hA : Below w2.heap.size w2 (w2.alloc (.cells #[.int .i64 2, .int .i64 1] 32)) := (Below.refl _ _).alloc (Nat.le_refl _) _; have K2 := Lib.hid ((K1.out.below HL.out hb2).below HL.out hA); have F2 := Lib.hid ((F2.out.below hb2 F2.out.lt).below hA (Nat.lt_of_lt_of_le F2.out.lt hb2.size)); have G2 := Lib.hid (pt.f2_new w2 2 1 32); obtain ⟨_, f0, f1, _, _⟩ := F2.out; obtain ⟨_, g0, g1, g2, g3⟩ := G2.out; clear hb2 hA)
    | (go_at_call 9; (with_reducible refine (HD1.out _ K0.out.k).mono ?_); rintro e1 w1 ⟨rfl, hb1⟩; have hA : Below w1.heap.size w1 (w1.alloc (.cells #[.int .i64 0, .int .i64 0] 32)) := (Below.refl _ _).alloc (Nat.le_refl _) _; have K1 := Lib.hid ((K0.out.below HL.out hb1).below HL.out hA); have F2 := Lib.hid (pt.f2_new w1 0 0 32); obtain ⟨_, f0, f1, f2, f3⟩ := F2.out; clear hb1 hA))
  go_ret
  exact ⟨rfl, K4.out.b⟩
theorem awake_any {K : World → Prop} (L : Ch K) (w : World) (hK : K w) : Calls Tryz.prog 6 #[] w fun e w' => e = .returned (.bool true) ∧ Below w.heap.size w w' := by
  have HA := Lib.hid (Awake_any L w hK)
  clear L hK
  go_enter Tryz.func6, Tryz.ntmps6
  go_wp2_with (go_at_call 12; refine (HA.out).mono ?_; rintro e2 w2 ⟨rfl, hb2⟩)
  go_ret
  exact ⟨rfl, hb2⟩
end Go.Proofs.YtbgbgigpcegenaaGreatDoor.ch
namespace Go.Proofs.YtbgbgigpcegenaaGreatDoor.ch
open Go.RowKit Go.Lib
set_option linter.unusedVariables false
theorem in07 {c : Int} (h0 : 0 ≤ c) (h7 : c ≤ 7) : inC c := ⟨h0, by omega⟩
theorem dc_ok {c : Int} {s : ByteArray} (hc : inC c) (h : (dz c s).2 = none) : dcT c s = pt.txt (dz c s).1 ∧ dcE c s = 0 ∧ dcA c s = 0 := by
  unfold dcT dcE dcA
  rw [if_pos ⟨hc, h⟩, if_pos hc, if_pos hc, if_pos h, h]
  exact ⟨rfl, rfl, rfl⟩
theorem dc_bad {c : Int} {s : ByteArray} {p : Nat} (hc : inC c) (h : (dz c s).2 = some p) : dcT c s = ⟨#[]⟩ ∧ dcE c s = 2 ∧ dcA c s = (p : Int) := by
  unfold dcT dcE dcA
  rw [if_neg (by rw [h]; simp), if_pos hc, if_pos hc, if_neg (by rw [h]; simp), h]
  exact ⟨rfl, rfl, rfl⟩
theorem bad_two (W : World) (a : Int) : Calls Tryz.prog 11 #[.agg #[.int .i64 2, .int .i64 a]] W fun e w' => e = .returned (.bool true) ∧ Below W.heap.size W w' := pt.bad_any W 2 a
theorem bad_zero (W : World) (a : Int) : Calls Tryz.prog 11 #[.agg #[.int .i64 0, .int .i64 a]] W fun e w' => e = .returned (.bool false) ∧ Below W.heap.size W w' := pt.bad_any W 0 a
set_option maxRecDepth 100000 in
set_option maxHeartbeats 4000000 in
theorem cuts_out {K : World → Prop} (L : Ch K) (c : Int) (a b : ByteArray) (w : World) (hK : K w) (ha : a.size ≤ maxLen) (hb : b.size ≤ maxLen) (h : 100 < a.size ∨ 100 < b.size ∨ c < 0 ∨ 7 < c) : Calls Tryz.prog 5 #[.int .i64 c, .string a, .string b] w fun e w' => e = .returned (.bool true) ∧ Below w.heap.size w w' := by
  have HAW := Lib.hid (awake_any L w hK)
  unfold maxLen at ha hb
  clear L hK
  have hh : ((100 : Int) < a.size) ∨ (¬ ((100 : Int) < a.size) ∧ (100 : Int) < b.size) ∨ (¬ ((100 : Int) < a.size) ∧ ¬ ((100 : Int) < b.size) ∧ c < 0) ∨ (¬ ((100 : Int) < a.size) ∧ ¬ ((100 : Int) < b.size) ∧ ¬ c < 0 ∧ 7 < c) := by omega
  clear h
  rcases hh with h | ⟨h1, h2⟩ | ⟨h1, h2, h3⟩ | ⟨h1, h2, h3, h4⟩
  all_goals
    go_enter Tryz.func5, Tryz.ntmps5
    go_wp2_with (go_at_call 6; refine (HAW.out).mono ?_; rintro e2 w2 ⟨rfl, hb2⟩)
    go_ret
    exact ⟨rfl, hb2⟩
set_option maxRecDepth 100000 in
set_option maxHeartbeats 4000000 in
theorem cuts_one {K : World → Prop} (L : Ch K) (c : Int) (a b : ByteArray) (w : World) (hK : K w) (ha : a.size ≤ 100) (hb : b.size ≤ 100) (h0 : 0 ≤ c) (h7 : c ≤ 7) (p : Nat) (h : (dz c a).2 = some p) : Calls Tryz.prog 5 #[.int .i64 c, .string a, .string b] w fun e w' => e = .returned (.bool true) ∧ Below w.heap.size w w' := by
  have HAW := Lib.hid (fun w2 h2 => awake_any L w2 h2)
  have HL := Lib.hid L.stay
  have K0 : Hid (Kb K w w) := Lib.hid ⟨hK, Below.refl _ _⟩
  obtain ⟨e1a, e1b, e1c⟩ := dc_bad (in07 h0 h7) h
  have HD1 : Hid (∀ W, K W → Calls Tryz.prog 9 #[.int .i64 c, .string a] W fun e w' => e = .returned (.tuple #[.string ⟨#[]⟩, .agg #[.int .i64 2, .int .i64 (p : Int)]]) ∧ Below W.heap.size W w') := Lib.hid (fun W h => by
    have := L.dec c a W h (by omega) (by omega) (by first | omega | (rw [ByteArray.size_append]; omega))
    rw [e1a, e1b, e1c] at this
    exact this)
  have HB1 := Lib.hid (fun W => bad_two W (p : Int))
  clear e1a e1b e1c h
  have n0 : ¬ c < 0 := by omega
  have n1 : ¬ 7 < c := by omega
  have n2 : ¬ (100 : Int) < (a.size : Int) := by omega
  have n3 : ¬ (100 : Int) < (b.size : Int) := by omega
  clear L hK
  go_enter Tryz.func5, Tryz.ntmps5
  go_wp2_with (first
    | (go_at_call 6; refine (HAW.out _ K2.out.k).mono ?_; rintro e9 w9 ⟨rfl, hb9⟩; have K3 := Lib.hid (K2.out.below HL.out hb9); clear hb9)
    | (go_at_call 11; refine (HB1.out _).mono ?_; rintro e9 w9 ⟨rfl, hb9⟩; have K2 := Lib.hid (K1.out.below HL.out hb9); clear hb9)
    | (go_at_call 9; (with_reducible refine (HD1.out _ K0.out.k).mono ?_); rintro e1 w1 ⟨rfl, hb1⟩; have hA : Below w1.heap.size w1 (w1.alloc (.cells #[.int .i64 2, .int .i64 (p : Int)] 32)) := (Below.refl _ _).alloc (Nat.le_refl _) _; have K1 := Lib.hid ((K0.out.below HL.out hb1).below HL.out hA); have F1 := Lib.hid (pt.f2_new w1 2 (p : Int) 32); obtain ⟨_, p1, q1, r1, s1⟩ := F1.out; clear hb1 hA))
  go_ret
  exact ⟨rfl, K3.out.b⟩
set_option maxRecDepth 100000 in
set_option maxHeartbeats 4000000 in
theorem cuts_two {K : World → Prop} (L : Ch K) (c : Int) (a b : ByteArray) (w : World) (hK : K w) (ha : a.size ≤ 100) (hb : b.size ≤ 100) (h0 : 0 ≤ c) (h7 : c ≤ 7) (p : Nat) (h : (dz c a).2 = none) (h2 : (dz c b).2 = some p) : Calls Tryz.prog 5 #[.int .i64 c, .string a, .string b] w fun e w' => e = .returned (.bool true) ∧ Below w.heap.size w w' := by
  have HAW := Lib.hid (fun w2 h2 => awake_any L w2 h2)
  have HL := Lib.hid L.stay
  have K0 : Hid (Kb K w w) := Lib.hid ⟨hK, Below.refl _ _⟩
  have hap := (dz_app h0 h7 (a := a) (b := b) h).1
  rw [h2] at hap
  obtain ⟨e1a, e1b, e1c⟩ := dc_ok (in07 h0 h7) h
  obtain ⟨e2a, e2b, e2c⟩ := dc_bad (in07 h0 h7) h2
  obtain ⟨e3a, e3b, e3c⟩ := dc_bad (p := a.size + p) (in07 h0 h7) hap
  rw [show ((a.size + p : Nat) : Int) = (a.size : Int) + (p : Int) by omega] at e3c
  obtain ⟨S, hS⟩ : ∃ S, S = pt.txt (dz c a).1 := ⟨_, rfl⟩
  rw [← hS] at e1a
  have HD1 : Hid (∀ W, K W → Calls Tryz.prog 9 #[.int .i64 c, .string a] W fun e w' => e = .returned (.tuple #[.string S, .agg #[.int .i64 0, .int .i64 0]]) ∧ Below W.heap.size W w') := Lib.hid (fun W h => by
    have := L.dec c a W h (by omega) (by omega) (by first | omega | (rw [ByteArray.size_append]; omega))
    rw [e1a, e1b, e1c] at this
    exact this)
  have HD2 : Hid (∀ W, K W → Calls Tryz.prog 9 #[.int .i64 c, .string b] W fun e w' => e = .returned (.tuple #[.string ⟨#[]⟩, .agg #[.int .i64 2, .int .i64 (p : Int)]]) ∧ Below W.heap.size W w') := Lib.hid (fun W h => by
    have := L.dec c b W h (by omega) (by omega) (by first | omega | (rw [ByteArray.size_append]; omega))
    rw [e2a, e2b, e2c] at this
    exact this)
  have HD3 : Hid (∀ W, K W → Calls Tryz.prog 9 #[.int .i64 c, .string (a ++ b)] W fun e w' => e = .returned (.tuple #[.string ⟨#[]⟩, .agg #[.int .i64 2, .int .i64 ((a.size : Int) + (p : Int))]]) ∧ Below W.heap.size W w') := Lib.hid (fun W h => by
    have := L.dec c (a ++ b) W h (by omega) (by omega) (by first | omega | (rw [ByteArray.size_append]; omega))
    rw [e3a, e3b, e3c] at this
    exact this)
  have HB1 := Lib.hid (fun W => bad_zero W 0)
  have HB2 := Lib.hid (fun W => bad_two W (p : Int))
  have hp : p ≤ 1000000 := by have := dz_at h7 h2; omega
  have o0 : ¬ 9223372036854775807 < a.size + b.size := by omega
  have o1 : IntKind.i64.wrap ((a.size : Int) + (p : Int)) = (a.size : Int) + (p : Int) := by simp [IntKind.wrap, IntKind.bits, IntKind.signed]; omega
  clear e1a e1b e1c e2a e2b e2c e3a e3b e3c h h2 hap hS
  have n0 : ¬ c < 0 := by omega
  have n1 : ¬ 7 < c := by omega
  have n2 : ¬ (100 : Int) < (a.size : Int) := by omega
  have n3 : ¬ (100 : Int) < (b.size : Int) := by omega
  clear L hK
  go_enter Tryz.func5, Tryz.ntmps5
  go_wp2_with (first
    | (go_at_call 6; refine (HAW.out _ K5.out.k).mono ?_; rintro e9 w9 ⟨rfl, hb9⟩; have K6 := Lib.hid (K5.out.below HL.out hb9); have F2 := Lib.hid (F2.out.below hb9 F2.out.lt); have F3 := Lib.hid (F3.out.below hb9 F3.out.lt); obtain ⟨_, p2, q2, _, _⟩ := F2.out; obtain ⟨_, p3, q3, _, _⟩ := F3.out; clear hb9)
    | (go_at_call 11; refine (HB2.out _).mono ?_; rintro e9 w9 ⟨rfl, hb9⟩; have K5 := Lib.hid (K3.out.below HL.out hb9); have F2 := Lib.hid (F2.out.below hb9 F2.out.lt); have F3 := Lib.hid (F3.out.below hb9 F3.out.lt); obtain ⟨_, p2, q2, _, _⟩ := F2.out; obtain ⟨_, p3, q3, _, _⟩ := F3.out; clear hb9)
    | (go_at_call 9; (with_reducible refine (HD3.out _ K2.out.k).mono ?_); rintro e3 w3 ⟨rfl, hb3⟩; have hA : Below w3.heap.size w3 (w3.alloc (.cells #[.int .i64 2, .int .i64 ((a.size : Int) + (p : Int))] 32)) := (Below.refl _ _).alloc (Nat.le_refl _) _; have K3 := Lib.hid ((K2.out.below HL.out hb3).below HL.out hA); have F2 := Lib.hid ((F2.out.below hb3 F2.out.lt).below hA (Nat.lt_of_lt_of_le F2.out.lt hb3.size)); obtain ⟨_, p2, q2, _, _⟩ := F2.out; have F3 := Lib.hid (pt.f2_new w3 2 ((a.size : Int) + (p : Int)) 32); obtain ⟨_, p3, q3, r3, s3⟩ := F3.out; clear hb3 hA)
    | (go_at_call 9; (with_reducible refine (HD2.out _ K4.out.k).mono ?_); rintro e2 w2 ⟨rfl, hb2⟩; have hA : Below w2.heap.size w2 (w2.alloc (.cells #[.int .i64 2, .int .i64 (p : Int)] 32)) := (Below.refl _ _).alloc (Nat.le_refl _) _; have K2 := Lib.hid ((K4.out.below HL.out hb2).below HL.out hA); have F2 := Lib.hid (pt.f2_new w2 2 (p : Int) 32); obtain ⟨_, p2, q2, r2, s2⟩ := F2.out; clear hb2 hA)
    | (go_at_call 11; refine (HB1.out _).mono ?_; rintro e9 w9 ⟨rfl, hb9⟩; have K4 := Lib.hid (K1.out.below HL.out hb9); clear hb9)
    | (go_at_call 9; (with_reducible refine (HD1.out _ K0.out.k).mono ?_); rintro e1 w1 ⟨rfl, hb1⟩; have hA : Below w1.heap.size w1 (w1.alloc (.cells #[.int .i64 0, .int .i64 0] 32)) := (Below.refl _ _).alloc (Nat.le_refl _) _; have K1 := Lib.hid ((K0.out.below HL.out hb1).below HL.out hA); have F1 := Lib.hid (pt.f2_new w1 0 0 32); obtain ⟨_, p1, q1, r1, s1⟩ := F1.out; clear hb1 hA))
  go_ret
  exact ⟨rfl, K6.out.b⟩
set_option maxRecDepth 100000 in
set_option maxHeartbeats 4000000 in
theorem cuts_both {K : World → Prop} (L : Ch K) (c : Int) (a b : ByteArray) (w : World) (hK : K w) (ha : a.size ≤ 100) (hb : b.size ≤ 100) (h0 : 0 ≤ c) (h7 : c ≤ 7) (h : (dz c a).2 = none) (h2 : (dz c b).2 = none) : Calls Tryz.prog 5 #[.int .i64 c, .string a, .string b] w fun e w' => e = .returned (.bool true) ∧ Below w.heap.size w w' := by
  have HAW := Lib.hid (fun w2 h2 => awake_any L w2 h2)
  have HL := Lib.hid L.stay
  have K0 : Hid (Kb K w w) := Lib.hid ⟨hK, Below.refl _ _⟩
  have hap := dz_app h0 h7 (a := a) (b := b) h
  have hap1 := hap.1
  rw [h2] at hap1
  have hap2 := hap.2 h2
  obtain ⟨e1a, e1b, e1c⟩ := dc_ok (in07 h0 h7) h
  obtain ⟨e2a, e2b, e2c⟩ := dc_ok (in07 h0 h7) h2
  obtain ⟨e3a, e3b, e3c⟩ := dc_ok (in07 h0 h7) hap1
  rw [hap2] at e3a
  have hm1 : (pt.txt (dz c a).1).size ≤ 1000000 := by have := dz_most h7 h; omega
  have hm2 : (pt.txt (dz c b).1).size ≤ 1000000 := by have := dz_most h7 h2; omega
  obtain ⟨S, hS⟩ : ∃ S, S = pt.txt (dz c a).1 := ⟨_, rfl⟩
  obtain ⟨T, hT⟩ : ∃ T, T = pt.txt (dz c b).1 := ⟨_, rfl⟩
  rw [← hS] at e1a e3a hm1
  rw [← hT] at e2a e3a hm2
  have HD1 : Hid (∀ W, K W → Calls Tryz.prog 9 #[.int .i64 c, .string a] W fun e w' => e = .returned (.tuple #[.string S, .agg #[.int .i64 0, .int .i64 0]]) ∧ Below W.heap.size W w') := Lib.hid (fun W h => by
    have := L.dec c a W h (by omega) (by omega) (by first | omega | (rw [ByteArray.size_append]; omega))
    rw [e1a, e1b, e1c] at this
    exact this)
  have HD2 : Hid (∀ W, K W → Calls Tryz.prog 9 #[.int .i64 c, .string b] W fun e w' => e = .returned (.tuple #[.string T, .agg #[.int .i64 0, .int .i64 0]]) ∧ Below W.heap.size W w') := Lib.hid (fun W h => by
    have := L.dec c b W h (by omega) (by omega) (by first | omega | (rw [ByteArray.size_append]; omega))
    rw [e2a, e2b, e2c] at this
    exact this)
  have HD3 : Hid (∀ W, K W → Calls Tryz.prog 9 #[.int .i64 c, .string (a ++ b)] W fun e w' => e = .returned (.tuple #[.string (S ++ T), .agg #[.int .i64 0, .int .i64 0]]) ∧ Below W.heap.size W w') := Lib.hid (fun W h => by
    have := L.dec c (a ++ b) W h (by omega) (by omega) (by first | omega | (rw [ByteArray.size_append]; omega))
    rw [e3a, e3b, e3c] at this
    exact this)
  have HB1 := Lib.hid (fun W => bad_zero W 0)
  have o0 : ¬ 9223372036854775807 < a.size + b.size := by omega
  have o1 : ¬ 9223372036854775807 < S.size + T.size := by omega
  clear e1a e1b e1c e2a e2b e2c e3a e3b e3c h h2 hap hap1 hap2 hS hT
  have n0 : ¬ c < 0 := by omega
  have n1 : ¬ 7 < c := by omega
  have n2 : ¬ (100 : Int) < (a.size : Int) := by omega
  have n3 : ¬ (100 : Int) < (b.size : Int) := by omega
  clear L hK
  go_enter Tryz.func5, Tryz.ntmps5
  go_wp2_with (first
    | (go_at_call 11; refine (HB1.out _).mono ?_; rintro e9 w9 ⟨rfl, hb9⟩; have K7 := Lib.hid (K6.out.below HL.out hb9); clear hb9)
    | (go_at_call 6; refine (HAW.out _ K5.out.k).mono ?_; rintro e9 w9 ⟨rfl, hb9⟩; have K6 := Lib.hid (K5.out.below HL.out hb9); have F3 := Lib.hid (F3.out.below hb9 F3.out.lt); obtain ⟨_, p3, q3, _, _⟩ := F3.out; clear hb9)
    | (go_at_call 11; refine (HB1.out _).mono ?_; rintro e9 w9 ⟨rfl, hb9⟩; have K5 := Lib.hid (K3.out.below HL.out hb9); have F3 := Lib.hid (F3.out.below hb9 F3.out.lt); obtain ⟨_, p3, q3, _, _⟩ := F3.out; clear hb9)
    | (go_at_call 9; (with_reducible refine (HD3.out _ K2.out.k).mono ?_); rintro e3 w3 ⟨rfl, hb3⟩; have hA : Below w3.heap.size w3 (w3.alloc (.cells #[.int .i64 0, .int .i64 0] 32)) := (Below.refl _ _).alloc (Nat.le_refl _) _; have K3 := Lib.hid ((K2.out.below HL.out hb3).below HL.out hA); have F2 := Lib.hid ((F2.out.below hb3 F2.out.lt).below hA (Nat.lt_of_lt_of_le F2.out.lt hb3.size)); obtain ⟨_, p2, q2, _, _⟩ := F2.out; have F3 := Lib.hid (pt.f2_new w3 0 0 32); obtain ⟨_, p3, q3, r3, s3⟩ := F3.out; clear hb3 hA)
    | (go_at_call 9; (with_reducible refine (HD2.out _ K4.out.k).mono ?_); rintro e2 w2 ⟨rfl, hb2⟩; have hA : Below w2.heap.size w2 (w2.alloc (.cells #[.int .i64 0, .int .i64 0] 32)) := (Below.refl _ _).alloc (Nat.le_refl _) _; have K2 := Lib.hid ((K4.out.below HL.out hb2).below HL.out hA); have F2 := Lib.hid (pt.f2_new w2 0 0 32); obtain ⟨_, p2, q2, r2, s2⟩ := F2.out; clear hb2 hA)
    | (go_at_call 11; refine (HB1.out _).mono ?_; rintro e9 w9 ⟨rfl, hb9⟩; have K4 := Lib.hid (K1.out.below HL.out hb9); clear hb9)
    | (go_at_call 9; (with_reducible refine (HD1.out _ K0.out.k).mono ?_); rintro e1 w1 ⟨rfl, hb1⟩; have hA : Below w1.heap.size w1 (w1.alloc (.cells #[.int .i64 0, .int .i64 0] 32)) := (Below.refl _ _).alloc (Nat.le_refl _) _; have K1 := Lib.hid ((K0.out.below HL.out hb1).below HL.out hA); have F1 := Lib.hid (pt.f2_new w1 0 0 32); obtain ⟨_, p1, q1, r1, s1⟩ := F1.out; clear hb1 hA))
  go_ret
  exact ⟨rfl, K7.out.b⟩
theorem cuts_walk {K : World → Prop} (L : Ch K) (c : Int) (a b : ByteArray) (w : World) (hK : K w) (ha : a.size ≤ maxLen) (hb : b.size ≤ maxLen) : Calls Tryz.prog 5 #[.int .i64 c, .string a, .string b] w fun e w' => e = .returned (.bool true) ∧ Below w.heap.size w w' := by
  by_cases h : 100 < a.size ∨ 100 < b.size ∨ c < 0 ∨ 7 < c
  · exact cuts_out L c a b w hK ha hb h
  · cases h1 : (dz c a).2 with
    | some p => exact cuts_one L c a b w hK (by omega) (by omega) (by omega) (by omega) p h1
    | none =>
      cases h2 : (dz c b).2 with
      | some p => exact cuts_two L c a b w hK (by omega) (by omega) (by omega) (by omega) p h1 h2
      | none => exact cuts_both L c a b w hK (by omega) (by omega) (by omega) (by omega) h1 h2
end Go.Proofs.YtbgbgigpcegenaaGreatDoor.ch
namespace Go.Proofs.YtbgbgigpcegenaaGreatDoor.ch
open Go.RowKit Go.Lib
set_option linter.unusedVariables false
theorem str_ne {s : ByteArray} (h : s.size ≠ 0) : ¬ s.toList = [] ∧ s.toList.isEmpty = false := by
  have m1 : ¬ s.toList = [] := fun e => by
    rw [ByteArray.toList_eq] at e
    apply h
    have : s.data.toList.length = 0 := by rw [e]; rfl
    rwa [size_list] at this
  exact ⟨m1, by rw [Bool.eq_false_iff]; intro e; exact m1 (List.isEmpty_iff.1 e)⟩
theorem txt_app (a b : List Int) : pt.txt a ++ pt.txt b = pt.txt (a ++ b) := by
  apply ByteArray.ext
  apply Array.ext'
  show (pt.txt a ++ pt.txt b).data.toList = (pt.txt (a ++ b)).data.toList
  rw [pt.data_app, pt.txt_data, pt.txt_data, pt.txt_data]
  simp [pt.nums]
end Go.Proofs.YtbgbgigpcegenaaGreatDoor.ch
namespace Go.Proofs.YtbgbgigpcegenaaGreatDoor.ch
open Go.RowKit Go.Lib
set_option linter.unusedVariables false
/-- The cells of some numbers. -/
def nv (l : List Int) : List Value := l.map (Value.int .i64)
/-- A row of the call's own. -/
def Rz (w : World) (B : Nat) (v : Value) (l : List Int) : Prop := w.ownsRow B 25 1 v l.length (nv l)
/-- Two rows of the call's own, apart. -/
structure Two (w0 w : World) (v : Value) (l : List Int) (u : Value) (m : List Int) : Prop where
  a : Rz w w0.heap.size v l
  b : Rz w w0.heap.size u m
  ne : v.ownBlock = none ∨ v.ownBlock ≠ u.ownBlock
  lt : Below w0.heap.size w0 w
end Go.Proofs.YtbgbgigpcegenaaGreatDoor.ch
namespace Go.Proofs.YtbgbgigpcegenaaGreatDoor.ch
open Go.RowKit Go.Lib
set_option linter.unusedVariables false
/-- A capital as a small letter. -/
def lowb (n : Nat) : Nat := if 65 ≤ n ∧ n ≤ 90 then n + 32 else n
end Go.Proofs.YtbgbgigpcegenaaGreatDoor.ch
namespace Go.Proofs.YtbgbgigpcegenaaGreatDoor.ch
open Go.RowKit Go.Lib
set_option linter.unusedVariables false
/-- All names, in order, and their charsets. -/
def nmL : List (ByteArray × Int) := [(⟨#[108, 97, 116, 105, 110, 49]⟩, 0), (⟨#[105, 115, 111, 45, 56, 56, 53, 57, 45, 49]⟩, 0), (⟨#[108, 97, 116, 105, 110, 45, 49]⟩, 0), (⟨#[107, 111, 105, 56, 45, 114]⟩, 1), (⟨#[107, 111, 105, 56, 114]⟩, 1), (⟨#[107, 111, 105, 56, 45, 117]⟩, 2), (⟨#[107, 111, 105, 56, 117]⟩, 2), (⟨#[99, 112, 56, 54, 54]⟩, 3), (⟨#[105, 98, 109, 56, 54, 54]⟩, 3), (⟨#[99, 112, 57, 52, 57]⟩, 4), (⟨#[101, 117, 99, 45, 107, 114]⟩, 4), (⟨#[117, 104, 99]⟩, 4), (⟨#[106, 111, 104, 97, 98]⟩, 5), (⟨#[99, 112, 49, 51, 54, 49]⟩, 5), (⟨#[98, 105, 103, 53, 45, 104, 107, 115, 99, 115]⟩, 6), (⟨#[98, 105, 103, 53]⟩, 6), (⟨#[117, 116, 102, 45, 56]⟩, 7), (⟨#[117, 116, 102, 56]⟩, 7), (⟨#[117, 116, 102, 45, 49, 54, 108, 101]⟩, 8), (⟨#[117, 116, 102, 49, 54, 108, 101]⟩, 8), (⟨#[117, 116, 102, 45, 49, 54, 98, 101]⟩, 9), (⟨#[117, 116, 102, 49, 54, 98, 101]⟩, 9)]
def nmS (j : Nat) : ByteArray := (nmL.getD j (⟨#[]⟩, 0)).1
def nmC (j : Nat) : Int := (nmL.getD j (⟨#[]⟩, 0)).2
/-- The table of names holds what the text lays. -/
structure NM (w : World) : Prop where
  s0 : w.cell? ⟨0, 0, none⟩ = some (.string ⟨#[108, 97, 116, 105, 110, 49]⟩)
  c0 : w.cell? ⟨0, 1, none⟩ = some (.int .i64 0)
  s1 : w.cell? ⟨0, 2, none⟩ = some (.string ⟨#[105, 115, 111, 45, 56, 56, 53, 57, 45, 49]⟩)
  c1 : w.cell? ⟨0, 3, none⟩ = some (.int .i64 0)
  s2 : w.cell? ⟨0, 4, none⟩ = some (.string ⟨#[108, 97, 116, 105, 110, 45, 49]⟩)
  c2 : w.cell? ⟨0, 5, none⟩ = some (.int .i64 0)
  s3 : w.cell? ⟨0, 6, none⟩ = some (.string ⟨#[107, 111, 105, 56, 45, 114]⟩)
  c3 : w.cell? ⟨0, 7, none⟩ = some (.int .i64 1)
  s4 : w.cell? ⟨0, 8, none⟩ = some (.string ⟨#[107, 111, 105, 56, 114]⟩)
  c4 : w.cell? ⟨0, 9, none⟩ = some (.int .i64 1)
  s5 : w.cell? ⟨0, 10, none⟩ = some (.string ⟨#[107, 111, 105, 56, 45, 117]⟩)
  c5 : w.cell? ⟨0, 11, none⟩ = some (.int .i64 2)
  s6 : w.cell? ⟨0, 12, none⟩ = some (.string ⟨#[107, 111, 105, 56, 117]⟩)
  c6 : w.cell? ⟨0, 13, none⟩ = some (.int .i64 2)
  s7 : w.cell? ⟨0, 14, none⟩ = some (.string ⟨#[99, 112, 56, 54, 54]⟩)
  c7 : w.cell? ⟨0, 15, none⟩ = some (.int .i64 3)
  s8 : w.cell? ⟨0, 16, none⟩ = some (.string ⟨#[105, 98, 109, 56, 54, 54]⟩)
  c8 : w.cell? ⟨0, 17, none⟩ = some (.int .i64 3)
  s9 : w.cell? ⟨0, 18, none⟩ = some (.string ⟨#[99, 112, 57, 52, 57]⟩)
  c9 : w.cell? ⟨0, 19, none⟩ = some (.int .i64 4)
  s10 : w.cell? ⟨0, 20, none⟩ = some (.string ⟨#[101, 117, 99, 45, 107, 114]⟩)
  c10 : w.cell? ⟨0, 21, none⟩ = some (.int .i64 4)
  s11 : w.cell? ⟨0, 22, none⟩ = some (.string ⟨#[117, 104, 99]⟩)
  c11 : w.cell? ⟨0, 23, none⟩ = some (.int .i64 4)
  s12 : w.cell? ⟨0, 24, none⟩ = some (.string ⟨#[106, 111, 104, 97, 98]⟩)
  c12 : w.cell? ⟨0, 25, none⟩ = some (.int .i64 5)
  s13 : w.cell? ⟨0, 26, none⟩ = some (.string ⟨#[99, 112, 49, 51, 54, 49]⟩)
  c13 : w.cell? ⟨0, 27, none⟩ = some (.int .i64 5)
  s14 : w.cell? ⟨0, 28, none⟩ = some (.string ⟨#[98, 105, 103, 53, 45, 104, 107, 115, 99, 115]⟩)
  c14 : w.cell? ⟨0, 29, none⟩ = some (.int .i64 6)
  s15 : w.cell? ⟨0, 30, none⟩ = some (.string ⟨#[98, 105, 103, 53]⟩)
  c15 : w.cell? ⟨0, 31, none⟩ = some (.int .i64 6)
  s16 : w.cell? ⟨0, 32, none⟩ = some (.string ⟨#[117, 116, 102, 45, 56]⟩)
  c16 : w.cell? ⟨0, 33, none⟩ = some (.int .i64 7)
  s17 : w.cell? ⟨0, 34, none⟩ = some (.string ⟨#[117, 116, 102, 56]⟩)
  c17 : w.cell? ⟨0, 35, none⟩ = some (.int .i64 7)
  s18 : w.cell? ⟨0, 36, none⟩ = some (.string ⟨#[117, 116, 102, 45, 49, 54, 108, 101]⟩)
  c18 : w.cell? ⟨0, 37, none⟩ = some (.int .i64 8)
  s19 : w.cell? ⟨0, 38, none⟩ = some (.string ⟨#[117, 116, 102, 49, 54, 108, 101]⟩)
  c19 : w.cell? ⟨0, 39, none⟩ = some (.int .i64 8)
  s20 : w.cell? ⟨0, 40, none⟩ = some (.string ⟨#[117, 116, 102, 45, 49, 54, 98, 101]⟩)
  c20 : w.cell? ⟨0, 41, none⟩ = some (.int .i64 9)
  s21 : w.cell? ⟨0, 42, none⟩ = some (.string ⟨#[117, 116, 102, 49, 54, 98, 101]⟩)
  c21 : w.cell? ⟨0, 43, none⟩ = some (.int .i64 9)
theorem NM.lt {w : World} (h : NM w) : 0 < w.heap.size := World.block_lt_of_cell? w _ h.s0
theorem NM.below {w w' : World} (h : NM w) {B : Nat} (hb : Below B w w') (hB : 0 < B) : NM w' :=
  ⟨(hb.cell (p := ⟨0, 0, none⟩) hB).trans h.s0, (hb.cell (p := ⟨0, 1, none⟩) hB).trans h.c0, (hb.cell (p := ⟨0, 2, none⟩) hB).trans h.s1, (hb.cell (p := ⟨0, 3, none⟩) hB).trans h.c1, (hb.cell (p := ⟨0, 4, none⟩) hB).trans h.s2, (hb.cell (p := ⟨0, 5, none⟩) hB).trans h.c2, (hb.cell (p := ⟨0, 6, none⟩) hB).trans h.s3, (hb.cell (p := ⟨0, 7, none⟩) hB).trans h.c3, (hb.cell (p := ⟨0, 8, none⟩) hB).trans h.s4, (hb.cell (p := ⟨0, 9, none⟩) hB).trans h.c4, (hb.cell (p := ⟨0, 10, none⟩) hB).trans h.s5, (hb.cell (p := ⟨0, 11, none⟩) hB).trans h.c5, (hb.cell (p := ⟨0, 12, none⟩) hB).trans h.s6, (hb.cell (p := ⟨0, 13, none⟩) hB).trans h.c6, (hb.cell (p := ⟨0, 14, none⟩) hB).trans h.s7, (hb.cell (p := ⟨0, 15, none⟩) hB).trans h.c7, (hb.cell (p := ⟨0, 16, none⟩) hB).trans h.s8, (hb.cell (p := ⟨0, 17, none⟩) hB).trans h.c8, (hb.cell (p := ⟨0, 18, none⟩) hB).trans h.s9, (hb.cell (p := ⟨0, 19, none⟩) hB).trans h.c9, (hb.cell (p := ⟨0, 20, none⟩) hB).trans h.s10, (hb.cell (p := ⟨0, 21, none⟩) hB).trans h.c10, (hb.cell (p := ⟨0, 22, none⟩) hB).trans h.s11, (hb.cell (p := ⟨0, 23, none⟩) hB).trans h.c11, (hb.cell (p := ⟨0, 24, none⟩) hB).trans h.s12, (hb.cell (p := ⟨0, 25, none⟩) hB).trans h.c12, (hb.cell (p := ⟨0, 26, none⟩) hB).trans h.s13, (hb.cell (p := ⟨0, 27, none⟩) hB).trans h.c13, (hb.cell (p := ⟨0, 28, none⟩) hB).trans h.s14, (hb.cell (p := ⟨0, 29, none⟩) hB).trans h.c14, (hb.cell (p := ⟨0, 30, none⟩) hB).trans h.s15, (hb.cell (p := ⟨0, 31, none⟩) hB).trans h.c15, (hb.cell (p := ⟨0, 32, none⟩) hB).trans h.s16, (hb.cell (p := ⟨0, 33, none⟩) hB).trans h.c16, (hb.cell (p := ⟨0, 34, none⟩) hB).trans h.s17, (hb.cell (p := ⟨0, 35, none⟩) hB).trans h.c17, (hb.cell (p := ⟨0, 36, none⟩) hB).trans h.s18, (hb.cell (p := ⟨0, 37, none⟩) hB).trans h.c18, (hb.cell (p := ⟨0, 38, none⟩) hB).trans h.s19, (hb.cell (p := ⟨0, 39, none⟩) hB).trans h.c19, (hb.cell (p := ⟨0, 40, none⟩) hB).trans h.s20, (hb.cell (p := ⟨0, 41, none⟩) hB).trans h.c20, (hb.cell (p := ⟨0, 42, none⟩) hB).trans h.s21, (hb.cell (p := ⟨0, 43, none⟩) hB).trans h.c21⟩
theorem NM.stay {w w' : World} (h : NM w) (hb : Below w.heap.size w w') : NM w' := h.below hb h.lt
def nmV : Array Value := #[.string ⟨#[108, 97, 116, 105, 110, 49]⟩, .int .i64 0, .string ⟨#[105, 115, 111, 45, 56, 56, 53, 57, 45, 49]⟩, .int .i64 0, .string ⟨#[108, 97, 116, 105, 110, 45, 49]⟩, .int .i64 0, .string ⟨#[107, 111, 105, 56, 45, 114]⟩, .int .i64 1, .string ⟨#[107, 111, 105, 56, 114]⟩, .int .i64 1, .string ⟨#[107, 111, 105, 56, 45, 117]⟩, .int .i64 2, .string ⟨#[107, 111, 105, 56, 117]⟩, .int .i64 2, .string ⟨#[99, 112, 56, 54, 54]⟩, .int .i64 3, .string ⟨#[105, 98, 109, 56, 54, 54]⟩, .int .i64 3, .string ⟨#[99, 112, 57, 52, 57]⟩, .int .i64 4, .string ⟨#[101, 117, 99, 45, 107, 114]⟩, .int .i64 4, .string ⟨#[117, 104, 99]⟩, .int .i64 4, .string ⟨#[106, 111, 104, 97, 98]⟩, .int .i64 5, .string ⟨#[99, 112, 49, 51, 54, 49]⟩, .int .i64 5, .string ⟨#[98, 105, 103, 53, 45, 104, 107, 115, 99, 115]⟩, .int .i64 6, .string ⟨#[98, 105, 103, 53]⟩, .int .i64 6, .string ⟨#[117, 116, 102, 45, 56]⟩, .int .i64 7, .string ⟨#[117, 116, 102, 56]⟩, .int .i64 7, .string ⟨#[117, 116, 102, 45, 49, 54, 108, 101]⟩, .int .i64 8, .string ⟨#[117, 116, 102, 49, 54, 108, 101]⟩, .int .i64 8, .string ⟨#[117, 116, 102, 45, 49, 54, 98, 101]⟩, .int .i64 9, .string ⟨#[117, 116, 102, 49, 54, 98, 101]⟩, .int .i64 9]
theorem nm_at0 (wx : World) : (Instr.index 88 (.agg nmV) (.int .i64 0)).run Tryz.prog wx = .ok (.agg #[.string (nmS 0), .int .i64 (nmC 0)]) wx := by kernel_rfl
theorem nm_at1 (wx : World) : (Instr.index 88 (.agg nmV) (.int .i64 1)).run Tryz.prog wx = .ok (.agg #[.string (nmS 1), .int .i64 (nmC 1)]) wx := by kernel_rfl
theorem nm_at2 (wx : World) : (Instr.index 88 (.agg nmV) (.int .i64 2)).run Tryz.prog wx = .ok (.agg #[.string (nmS 2), .int .i64 (nmC 2)]) wx := by kernel_rfl
theorem nm_at3 (wx : World) : (Instr.index 88 (.agg nmV) (.int .i64 3)).run Tryz.prog wx = .ok (.agg #[.string (nmS 3), .int .i64 (nmC 3)]) wx := by kernel_rfl
theorem nm_at4 (wx : World) : (Instr.index 88 (.agg nmV) (.int .i64 4)).run Tryz.prog wx = .ok (.agg #[.string (nmS 4), .int .i64 (nmC 4)]) wx := by kernel_rfl
theorem nm_at5 (wx : World) : (Instr.index 88 (.agg nmV) (.int .i64 5)).run Tryz.prog wx = .ok (.agg #[.string (nmS 5), .int .i64 (nmC 5)]) wx := by kernel_rfl
theorem nm_at6 (wx : World) : (Instr.index 88 (.agg nmV) (.int .i64 6)).run Tryz.prog wx = .ok (.agg #[.string (nmS 6), .int .i64 (nmC 6)]) wx := by kernel_rfl
theorem nm_at7 (wx : World) : (Instr.index 88 (.agg nmV) (.int .i64 7)).run Tryz.prog wx = .ok (.agg #[.string (nmS 7), .int .i64 (nmC 7)]) wx := by kernel_rfl
theorem nm_at8 (wx : World) : (Instr.index 88 (.agg nmV) (.int .i64 8)).run Tryz.prog wx = .ok (.agg #[.string (nmS 8), .int .i64 (nmC 8)]) wx := by kernel_rfl
theorem nm_at9 (wx : World) : (Instr.index 88 (.agg nmV) (.int .i64 9)).run Tryz.prog wx = .ok (.agg #[.string (nmS 9), .int .i64 (nmC 9)]) wx := by kernel_rfl
theorem nm_at10 (wx : World) : (Instr.index 88 (.agg nmV) (.int .i64 10)).run Tryz.prog wx = .ok (.agg #[.string (nmS 10), .int .i64 (nmC 10)]) wx := by kernel_rfl
theorem nm_at11 (wx : World) : (Instr.index 88 (.agg nmV) (.int .i64 11)).run Tryz.prog wx = .ok (.agg #[.string (nmS 11), .int .i64 (nmC 11)]) wx := by kernel_rfl
theorem nm_at12 (wx : World) : (Instr.index 88 (.agg nmV) (.int .i64 12)).run Tryz.prog wx = .ok (.agg #[.string (nmS 12), .int .i64 (nmC 12)]) wx := by kernel_rfl
theorem nm_at13 (wx : World) : (Instr.index 88 (.agg nmV) (.int .i64 13)).run Tryz.prog wx = .ok (.agg #[.string (nmS 13), .int .i64 (nmC 13)]) wx := by kernel_rfl
theorem nm_at14 (wx : World) : (Instr.index 88 (.agg nmV) (.int .i64 14)).run Tryz.prog wx = .ok (.agg #[.string (nmS 14), .int .i64 (nmC 14)]) wx := by kernel_rfl
theorem nm_at15 (wx : World) : (Instr.index 88 (.agg nmV) (.int .i64 15)).run Tryz.prog wx = .ok (.agg #[.string (nmS 15), .int .i64 (nmC 15)]) wx := by kernel_rfl
theorem nm_at16 (wx : World) : (Instr.index 88 (.agg nmV) (.int .i64 16)).run Tryz.prog wx = .ok (.agg #[.string (nmS 16), .int .i64 (nmC 16)]) wx := by kernel_rfl
theorem nm_at17 (wx : World) : (Instr.index 88 (.agg nmV) (.int .i64 17)).run Tryz.prog wx = .ok (.agg #[.string (nmS 17), .int .i64 (nmC 17)]) wx := by kernel_rfl
theorem nm_at18 (wx : World) : (Instr.index 88 (.agg nmV) (.int .i64 18)).run Tryz.prog wx = .ok (.agg #[.string (nmS 18), .int .i64 (nmC 18)]) wx := by kernel_rfl
theorem nm_at19 (wx : World) : (Instr.index 88 (.agg nmV) (.int .i64 19)).run Tryz.prog wx = .ok (.agg #[.string (nmS 19), .int .i64 (nmC 19)]) wx := by kernel_rfl
theorem nm_at20 (wx : World) : (Instr.index 88 (.agg nmV) (.int .i64 20)).run Tryz.prog wx = .ok (.agg #[.string (nmS 20), .int .i64 (nmC 20)]) wx := by kernel_rfl
theorem nm_at21 (wx : World) : (Instr.index 88 (.agg nmV) (.int .i64 21)).run Tryz.prog wx = .ok (.agg #[.string (nmS 21), .int .i64 (nmC 21)]) wx := by kernel_rfl
theorem nm_at (j : Nat) (hj : j < 22) (wx : World) : (Instr.index 88 (.agg nmV) (.int .i64 (j : Int))).run Tryz.prog wx = .ok (.agg #[.string (nmS j), .int .i64 (nmC j)]) wx := by
  match j, hj with
  | 0, _ => exact nm_at0 wx
  | 1, _ => exact nm_at1 wx
  | 2, _ => exact nm_at2 wx
  | 3, _ => exact nm_at3 wx
  | 4, _ => exact nm_at4 wx
  | 5, _ => exact nm_at5 wx
  | 6, _ => exact nm_at6 wx
  | 7, _ => exact nm_at7 wx
  | 8, _ => exact nm_at8 wx
  | 9, _ => exact nm_at9 wx
  | 10, _ => exact nm_at10 wx
  | 11, _ => exact nm_at11 wx
  | 12, _ => exact nm_at12 wx
  | 13, _ => exact nm_at13 wx
  | 14, _ => exact nm_at14 wx
  | 15, _ => exact nm_at15 wx
  | 16, _ => exact nm_at16 wx
  | 17, _ => exact nm_at17 wx
  | 18, _ => exact nm_at18 wx
  | 19, _ => exact nm_at19 wx
  | 20, _ => exact nm_at20 wx
  | 21, _ => exact nm_at21 wx
  | n + 22, h => exact absurd h (by omega)
/-- A text, its capitals as small letters. -/
def low (s : ByteArray) : ByteArray := ⟨(s.data.toList.map fun x => UInt8.ofNat (lowb x.toNat)).toArray⟩
theorem lowb_lt {n : Nat} (h : n < 256) : lowb n < 256 := by unfold lowb; split <;> omega
theorem low_size (s : ByteArray) : (low s).size = s.size := by
  show (s.data.toList.map _).toArray.size = s.size
  simp
theorem low_bt (s : ByteArray) (k : Nat) (h : k < s.size) : bt (low s) k = lowb (bt s k) := by
  have hl := size_list s
  unfold bt low
  simp only [List.getD_eq_getElem?_getD, List.getElem?_map, List.getElem?_eq_getElem (show k < s.data.toList.length by omega), Option.map_some, Option.getD_some]
  have := lowb_lt (s.data.toList[k]).toNat_lt
  rw [UInt8.toNat_ofNat']
  exact Nat.mod_eq_of_lt this
/-- The row while it is made small: k of its bytes are. -/
structure Lr (w0 W : World) (s : ByteArray) (j : Nat) : Prop where
  b : Below w0.heap.size w0 W
  lt : w0.heap.size < W.heap.size
  c : ∀ k, k < s.size → W.cell? ⟨w0.heap.size, k, none⟩ = some (.int .u8 (((if k < j then lowb (bt s k) else bt s k) : Nat) : Int))
  f : ∀ k, k < s.size → W.frozen? ⟨w0.heap.size, k, none⟩ = false
theorem Lr.same {w0 W : World} {s : ByteArray} {j : Nat} (h : Lr w0 W s j) (hj : j < s.size) (he : lowb (bt s j) = bt s j) : Lr w0 W s (j + 1) := by
  refine ⟨h.b, h.lt, fun k hk => ?_, h.f⟩
  rw [h.c k hk]
  by_cases e : k = j
  · subst e; rw [if_neg (by omega), if_pos (by omega), he]
  · by_cases e2 : k < j
    · rw [if_pos e2, if_pos (by omega)]
    · rw [if_neg e2, if_neg (by omega)]
theorem Lr.put {w0 W : World} {s : ByteArray} {j : Nat} (h : Lr w0 W s j) (hj : j < s.size) : Lr w0 (W.setCell ⟨w0.heap.size, j, none⟩ (.int .u8 ((lowb (bt s j) : Nat) : Int))) s (j + 1) := by
  refine ⟨h.b.setCell (Nat.le_refl _) _, by simpa [World.setCell] using h.lt, fun k hk => ?_, fun k hk => by rw [World.frozen?_setCell]; exact h.f k hk⟩
  by_cases e : k = j
  · subst e
    rw [if_pos (by omega)]
    exact World.cell?_setCell_same (w := W) _ _ (h.c k hk)
  · rw [World.cell?_setCell_other (a := ⟨w0.heap.size, j, none⟩) (b := ⟨w0.heap.size, k, none⟩) W _ (by intro h2; injection h2 with h3 h4; omega), h.c k hk]
    by_cases e2 : k < j
    · rw [if_pos e2, if_pos (by omega)]
    · rw [if_neg e2, if_neg (by omega)]
theorem below_bytes (w : World) (e : TypeId) (s : ByteArray) : Below w.heap.size w (bytesWorld w e s) := by
  refine ⟨?_, ?_, ?_, by rw [bytesWorld_size]; omega, fun i hi => bytesWorld_at_old w e s i hi⟩ <;> simp [bytesWorld, World.freeze, World.alloc, World.drew, -World.alloc_eq, -World.drew_eq]
theorem bytes_new (w : World) (s : ByteArray) (hs : s.size ≤ 4000) : Lr w (bytesWorld w 5 s) s 0 := by
  refine ⟨below_bytes w _ s, by rw [bytesWorld_size]; omega, fun k hk => ?_, fun k hk => ?_⟩
  · rw [if_neg (by omega)]
    exact bytesWorld_cell w _ s k hk
  · have h1 : s.size ≤ (bytesCells w 5 s).size := by unfold bytesCells; simp
    have h2 := bytesWorld_at_new w 5 s
    unfold World.frozen?
    simp only [h2]
    simp
    omega
end Go.Proofs.YtbgbgigpcegenaaGreatDoor.ch
namespace Go.Proofs.YtbgbgigpcegenaaGreatDoor.ch
open Go.RowKit Go.Lib
set_option linter.unusedVariables false
theorem conv_in (w : World) (s : ByteArray) : (convert 9 66 (.string s)).run Tryz.prog w = .ok (.slice (some ⟨w.heap.size, 0, none⟩) s.size (grownCap w s.size 0 5)) (bytesWorld w 5 s) :=
  Lib.run_convert_string_bytes w 9 66 5 s Tryz.underlying9 Tryz.underlying66 Tryz.underlying5
theorem conv_low {w0 W : World} {s : ByteArray} (h : Lr w0 W s s.size) (cap : Nat) : (convert 66 9 (.slice (some ⟨w0.heap.size, 0, none⟩) s.size cap)).run Tryz.prog W = .ok (.string (low s)) W := by
  have h1 := run_convert_bytes_arg (P := Tryz.prog) W 66 5 Tryz.underlying66 Tryz.underlying5 w0.heap.size 0 s.size cap ((low s).data.toList.map fun (b : UInt8) => (b.toNat : Int)) (by rw [List.length_map, size_list, low_size]) (fun i hi => by
    rw [Nat.zero_add, h.c i hi, if_pos hi, ← low_bt s i hi]
    have hl := size_list (low s)
    have hz := low_size s
    unfold bt
    simp [List.getD, List.getElem?_map, List.getElem?_eq_getElem (show i < (low s).data.toList.length by omega)]) 9 Tryz.underlying9
  rw [h1, pt.str_back]
set_option maxRecDepth 100000 in
set_option maxHeartbeats 2000000 in
theorem lower_any (s : ByteArray) (w : World) (hs : s.size ≤ 4000) : Calls Tryz.prog 53 #[.string s] w fun e w' => e = .returned (.string (low s)) ∧ Below w.heap.size w w' := by
  have hcv := fun W => conv_in W s
  have L0 := Lib.hid (bytes_new w s hs)
  generalize grownCap w s.size 0 5 = CAP at *
  have hcw : (convert 9 66 (.string s)).run Tryz.prog w = .ok (.slice (some ⟨w.heap.size, 0, none⟩) s.size (grownCap w s.size 0 5)) (bytesWorld w 5 s) := hcv w
  generalize grownCap w s.size 0 5 = CAP at *
  generalize bytesWorld w 5 s = W0 at *
  clear hcv
  go_enter Tryz.func53, Tryz.ntmps53
  go_wp2_with fail
  clear hcw
  go_loopw [10] (fun i wr => ∃ j : Nat, j ≤ s.size ∧ i = .int .i64 j ∧ Lr w wr s j) (fun i _ => s.size - (RowKit.intOf i).toNat)
  case atStart => exact ⟨0, Nat.zero_le _, rfl, L0.out⟩
  case round =>
    obtain ⟨j, hj, rfl, hL⟩ := hrel
    have HL := Lib.hid hL
    clear hL L0
    by_cases hlt : j < s.size
    · have hcell := HL.out.c j hlt
      rw [if_neg (by omega)] at hcell
      have hfr := HL.out.f j hlt
      have hb := bt_lt s j
      by_cases h65 : 65 ≤ bt s j ∧ bt s j ≤ 90
      · have hp := HL.out.put hlt
        have e : lowb (bt s j) = bt s j + 32 := by unfold lowb; rw [if_pos h65]
        rw [e] at hp
        have HP := Lib.hid hp
        have k0 : (65 : Int) ≤ ((bt s j : Nat) : Int) := by omega
        have k1 : ((bt s j : Nat) : Int) ≤ 90 := by omega
        have k2 : (((bt s j + 32 : Nat) : Nat) : Int) = ((bt s j : Nat) : Int) - 65 + 97 := by omega
        rw [k2] at HP
        clear hp e h65 k2 hb
        generalize ((bt s j : Nat) : Int) = B at *
        go_wp2_with fail
        go_roundw
        case rel => exact ⟨j + 1, by omega, by go_num, HP.out⟩
        case measure => simp [RowKit.intOf]; omega
      · have e : lowb (bt s j) = bt s j := by unfold lowb; rw [if_neg h65]
        have HP := Lib.hid (HL.out.same hlt e)
        have hh : ((bt s j : Nat) : Int) < 65 ∨ ((65 : Int) ≤ ((bt s j : Nat) : Int) ∧ (90 : Int) < ((bt s j : Nat) : Int)) := by omega
        have k1 : ((bt s j : Nat) : Int) < 256 := by omega
        have k2 : 0 ≤ ((bt s j : Nat) : Int) := by omega
        clear e h65 hb
        generalize ((bt s j : Nat) : Int) = B at *
        rcases hh with k0 | ⟨k0, k3⟩
        · go_wp2_with fail
          go_roundw
          case rel => exact ⟨j + 1, by omega, by go_num, HP.out⟩
          case measure => simp [RowKit.intOf]; omega
        · go_wp2_with fail
          go_roundw
          case rel => exact ⟨j + 1, by omega, by go_num, HP.out⟩
          case measure => simp [RowKit.intOf]; omega
    · obtain rfl : j = s.size := by omega
      have hcv := fun cap => conv_low HL.out cap
      go_wp2_with fail
      go_ret
      exact ⟨rfl, HL.out.b⟩
end Go.Proofs.YtbgbgigpcegenaaGreatDoor.ch
namespace Go.Proofs.YtbgbgigpcegenaaGreatDoor.ch
open Go.RowKit Go.Lib
set_option linter.unusedVariables false
/-- The first of the names from j on that is a text. -/
def fnd (L : ByteArray) : Nat → Nat → Option Nat
  | 0, _ => none
  | f + 1, j => if nmS j = L then some j else fnd L f (j + 1)
def fd (L : ByteArray) : Option Nat := fnd L 22 0
def fdC (L : ByteArray) : Int := match fd L with | some j => nmC j | none => 0
/-- A block of a name and its charset. -/
theorem named_new (w : World) (x : ByteArray) (c : Int) (t : TypeId) : (w.alloc (.cells #[.string x, .int .i64 c] t)).cell? ⟨w.heap.size, 0, none⟩ = some (.string x) ∧ (w.alloc (.cells #[.string x, .int .i64 c] t)).cell? ⟨w.heap.size, 1, none⟩ = some (.int .i64 c) := by
  constructor <;> (rw [World.cell?_alloc_mark]; rfl)
theorem nm_load (W : World) (h : NM W) : (loadVar 88 ⟨0, 0, none⟩).run Tryz.prog W = .ok (.agg nmV) W := by
  obtain ⟨s0, c0, s1, c1, s2, c2, s3, c3, s4, c4, s5, c5, s6, c6, s7, c7, s8, c8, s9, c9, s10, c10, s11, c11, s12, c12, s13, c13, s14, c14, s15, c15, s16, c16, s17, c17, s18, c18, s19, c19, s20, c20, s21, c21⟩ := h
  have hl : (loadCells ⟨0, 0, none⟩ nmV.toList.length).run Tryz.prog W = .ok nmV.toList.toArray W := run_loadCells_list (P := Tryz.prog) W ⟨0, 0, none⟩ nmV.toList (fun j v hv => by
    have hadd : (⟨0, 0, none⟩ : Addr).add j = ⟨0, j, none⟩ := by unfold Addr.add; split <;> simp_all
    rw [hadd]
    match j, hv with
    | 0, hv => injection hv with hv; subst hv; exact s0
    | 1, hv => injection hv with hv; subst hv; exact c0
    | 2, hv => injection hv with hv; subst hv; exact s1
    | 3, hv => injection hv with hv; subst hv; exact c1
    | 4, hv => injection hv with hv; subst hv; exact s2
    | 5, hv => injection hv with hv; subst hv; exact c2
    | 6, hv => injection hv with hv; subst hv; exact s3
    | 7, hv => injection hv with hv; subst hv; exact c3
    | 8, hv => injection hv with hv; subst hv; exact s4
    | 9, hv => injection hv with hv; subst hv; exact c4
    | 10, hv => injection hv with hv; subst hv; exact s5
    | 11, hv => injection hv with hv; subst hv; exact c5
    | 12, hv => injection hv with hv; subst hv; exact s6
    | 13, hv => injection hv with hv; subst hv; exact c6
    | 14, hv => injection hv with hv; subst hv; exact s7
    | 15, hv => injection hv with hv; subst hv; exact c7
    | 16, hv => injection hv with hv; subst hv; exact s8
    | 17, hv => injection hv with hv; subst hv; exact c8
    | 18, hv => injection hv with hv; subst hv; exact s9
    | 19, hv => injection hv with hv; subst hv; exact c9
    | 20, hv => injection hv with hv; subst hv; exact s10
    | 21, hv => injection hv with hv; subst hv; exact c10
    | 22, hv => injection hv with hv; subst hv; exact s11
    | 23, hv => injection hv with hv; subst hv; exact c11
    | 24, hv => injection hv with hv; subst hv; exact s12
    | 25, hv => injection hv with hv; subst hv; exact c12
    | 26, hv => injection hv with hv; subst hv; exact s13
    | 27, hv => injection hv with hv; subst hv; exact c13
    | 28, hv => injection hv with hv; subst hv; exact s14
    | 29, hv => injection hv with hv; subst hv; exact c14
    | 30, hv => injection hv with hv; subst hv; exact s15
    | 31, hv => injection hv with hv; subst hv; exact c15
    | 32, hv => injection hv with hv; subst hv; exact s16
    | 33, hv => injection hv with hv; subst hv; exact c16
    | 34, hv => injection hv with hv; subst hv; exact s17
    | 35, hv => injection hv with hv; subst hv; exact c17
    | 36, hv => injection hv with hv; subst hv; exact s18
    | 37, hv => injection hv with hv; subst hv; exact c18
    | 38, hv => injection hv with hv; subst hv; exact s19
    | 39, hv => injection hv with hv; subst hv; exact c19
    | 40, hv => injection hv with hv; subst hv; exact s20
    | 41, hv => injection hv with hv; subst hv; exact c20
    | 42, hv => injection hv with hv; subst hv; exact s21
    | 43, hv => injection hv with hv; subst hv; exact c21
    | n + 44, hv => exact absurd (List.getElem?_eq_some_iff.1 hv).1 (by show ¬ n + 44 < 44; omega))
  have e : nmV.toList.length = 44 := rfl
  rw [e] at hl
  have hagg : (isAgg 88).run Tryz.prog W = .ok true W := by kernel_rfl
  have hsz : (sizeOf 88).run Tryz.prog W = .ok 44 W := by kernel_rfl
  have h2 : (Sem.run Tryz.prog (loadVar 88 ⟨0, 0, none⟩) W) = (Result.ok true W).andThen fun b w' => (Sem.run Tryz.prog (if b = true then (do let n ← sizeOf 88; let c ← loadCells ⟨0, 0, none⟩ n; pure (Value.agg c)) else load ⟨0, 0, none⟩) w') := by
    unfold loadVar
    rw [Sem.run_bind, hagg]
  rw [h2]
  simp only [Result.andThen_ok, if_true, Sem.run_bind, hsz, hl, Sem.run_pure]
theorem wpList_load_eq {P : Program} {ops : Array Oper} {rest : List Oper} {o : Oper} {a : Act} {w : World} {Q : Exit → Act → World → Prop} (hgd : o.guard = none) (ty : TypeId) (x : Operand) (ho : o.op = .load ty x)
    (ad : Addr) (hx : a.eval x = .pointer (some ad)) (v : Value) (hl : (loadVar ty ad).run P w = .ok v w) (h : wpList P ops Q rest (a.put o.dst v) w) : wpList P ops Q (o :: rest) a w :=
  wpList_plain hgd fun _ hK => by
    unfold Oper.wp execOp
    simp only [ho, hx, Instr.loadAt, Instr.sureAddr, Sem.run_bind, Sem.run_pure, Result.andThen_ok, hl]
    exact hK _ _ h
set_option maxRecDepth 100000 in
set_option maxHeartbeats 4000000 in
theorem Named_row (s : ByteArray) (w : World) (hN : NM w) (hs : s.size ≤ 4000) : Calls Tryz.prog 26 #[.string s] w fun e w' => e = .returned (.tuple #[.int .i64 (fdC (low s)), .bool (fd (low s)).isSome]) ∧ Below w.heap.size w w' := by
  have HLW := Lib.hid (lower_any s w hs)
  generalize low s = L at *
  have HN := Lib.hid hN
  have hat : ∀ (j : Nat) (wx : World), j < 22 → (Instr.index 88 (.agg nmV) (.int .i64 (j : Int))).run Tryz.prog wx = .ok (.agg #[.string (nmS j), .int .i64 (nmC j)]) wx := fun j wx h => nm_at j h wx
  have HAT := Lib.hid hat
  clear hN hat
  go_enter Tryz.func26, Tryz.ntmps26
  go_wp2_with (first | (refine wpList_load_eq rfl 88 _ rfl ⟨0, 0, none⟩ rfl _ hld ?_; clear hld) | (go_at_call 53; refine (HLW.out).mono ?_; rintro e1 w1 ⟨rfl, hb1⟩; have B1 := Lib.hid hb1; have hld := nm_load _ (HN.out.stay hb1); clear hb1))
  clear HLW
  generalize nmV = NV at *
  go_loopw [10] (fun i wr => ∃ j f : Nat, j + f = 22 ∧ i = .int .i64 j ∧ Below w.heap.size w wr ∧ fnd L f j = fd L) (fun i _ => 22 - (RowKit.intOf i).toNat)
  case atStart => exact ⟨0, 22, rfl, rfl, B1.out, rfl⟩
  case round =>
    obtain ⟨j, f, hj, rfl, hB, hf⟩ := hrel
    have HB := Lib.hid hB
    have HF := Lib.hid hf
    clear hB hf
    by_cases hlt : j < 22
    · have hix := fun wx => HAT.out j wx hlt
      obtain ⟨f, rfl⟩ : ∃ f', f = f' + 1 := ⟨f - 1, by omega⟩
      have hf := HF.out
      unfold fnd at hf
      obtain ⟨z0, z1⟩ := named_new wr (nmS j) (nmC j) 87
      by_cases he : nmS j = L
      · rw [if_pos he] at hf
        have HV : Hid (fdC L = nmC j ∧ (fd L).isSome = true) := Lib.hid (by unfold fdC; rw [← hf]; exact ⟨rfl, rfl⟩)
        rw [he] at hix z0 z1
        have BW := Lib.hid (HB.out.alloc HB.out.size (.cells #[.string L, .int .i64 (nmC j)] 87))
        clear he hf
        generalize nmC j = C at *
        go_wp2_with fail
        go_ret2
        exact ⟨by show Ending.returned (.tuple #[.int .i64 C, .bool true]) = _; rw [HV.out.1, HV.out.2], BW.out⟩
      · rw [if_neg he] at hf
        have HF2 := Lib.hid hf
        have hq : ((nmS j).toList == L.toList) = false := by
          rw [beq_eq_false_iff_ne]
          intro h
          rw [ByteArray.toList_eq, ByteArray.toList_eq] at h
          exact he (ByteArray.ext (Array.ext' h))
        have BW := Lib.hid (HB.out.alloc HB.out.size (.cells #[.string (nmS j), .int .i64 (nmC j)] 87))
        clear he hf
        generalize nmC j = C at *
        generalize nmS j = S at *
        go_wp2_with fail
        go_roundw
        case rel => exact ⟨j + 1, f, by omega, by go_num, BW.out, HF2.out⟩
        case measure => simp [RowKit.intOf]; omega
    · obtain rfl : f = 0 := by omega
      have hf : none = fd L := HF.out
      have HV : Hid (fdC L = 0 ∧ (fd L).isSome = false) := Lib.hid (by unfold fdC; rw [← hf]; exact ⟨rfl, rfl⟩)
      clear hf
      go_wp2_with fail
      go_ret2
      exact ⟨by show Ending.returned (.tuple #[.int .i64 0, .bool false]) = _; rw [HV.out.1, HV.out.2], HB.out⟩
end Go.Proofs.YtbgbgigpcegenaaGreatDoor.ch
