/- Encode of the landed single: a contract. -/
import Derived.Test.YtiokdeomdeenbaaDoorSg6
namespace Go.Proofs.YtiokdeomdeenbaaDoor.sg
open Go.RowKit Go.Lib
open Go.Proofs.YtiokdeomdeenbaaDoor.tb
set_option linter.unusedVariables false
def bv (l : List UInt8) : List Value := l.map fun b => Value.int .u8 (b.toNat : Int)
theorem str_bytes (l : List UInt8) : strOfNums (l.map fun b => (b.toNat : Int)) = ⟨l.toArray⟩ := by
  apply ByteArray.ext
  apply Array.ext'
  show (strOfNums _).data.toList = l
  rw [strOfNums_data, List.map_map]
  conv => rhs; rw [← List.map_id l]
  apply List.map_congr_left
  intro b _
  simp
theorem kind_it {w : World} {B : Nat} {e : TypeId} {k n it : Nat} {v : Value} {xs : List Value} {s : ByteArray} {pos : Nat} (h : w.ownsRow B e k v n xs) (hX : w.heap[it]? = some (.stringIter s pos)) : v.ownBlock ≠ some it := by
  obtain ⟨_, ⟨rfl, _⟩ | ⟨g, cap, cur, rfl, _, hg, _⟩⟩ := h
  · simp [Value.ownBlock]
  · intro hx
    simp [Value.ownBlock] at hx
    subst hx
    rw [hX] at hg
    cases hg
theorem own_iter {w : World} {B : Nat} {e : TypeId} {k n it : Nat} {v : Value} {xs : List Value} {s : ByteArray} {pos : Nat} (h : w.ownsRow B e k v n xs) (hX : w.heap[it]? = some (.stringIter s pos)) (s' : ByteArray) (pos' : Nat) : (w.iterAt it s' pos').ownsRow B e k v n xs := by
  obtain ⟨h1, h2 | ⟨g, cap, cur, rfl, hb, hg, r⟩⟩ := h
  · exact ⟨h1, .inl h2⟩
  · refine ⟨h1, .inr ⟨g, cap, cur, rfl, hb, ?_, r⟩⟩
    rw [iterAt_other _ _ _ _ _ (fun e => by subst e; rw [hX] at hg; cases hg)]
    exact hg
/-- What Encode answers. -/
def SEnc (w : World) (r : List UInt8 × Option Nat) (e : Ending) (w' : World) : Prop :=
  e = .returned (.tuple #[.string (if r.2 = none then ⟨r.1.toArray⟩ else ⟨#[]⟩), .agg #[.int .i64 (if r.2 = none then 0 else 6), .int .i64 (pt.fa r.2)]]) ∧ Below w.heap.size w w'
set_option maxRecDepth 100000 in
set_option maxHeartbeats 4000000 in
theorem encode_good (c c' : Int) (X : Value) (zs : List Int) (w : World) (h0 : 0 ≤ c) (h1 : c ≤ 3) (hs : (pt.txt zs).size ≤ 4000) (hv : zs.all validRune = true) (hx : TE TBr w X (tbl c)) (hT : pt.Tabs w) :
    Calls Tryd.prog 31 #[.agg #[X, .int .i64 c'], .string (pt.txt zs)] w (SEnc w (senc c 0 zs)) := by
  have hsr := tb.tab.srt _ _ _ hx
  have h1c := TE.one hx
  obtain ⟨R, hR⟩ : ∃ R, R = senc c 0 zs := ⟨_, rfl⟩
  rw [← hR]
  obtain ⟨s, hS⟩ : ∃ s, s = pt.txt zs := ⟨_, rfl⟩
  have hah : pt.Ahead s 0 zs [] := by
    unfold pt.Ahead
    rw [hS, List.drop_zero, List.append_nil]; rfl
  have hchk : ∀ W, pt.Tabs W → Calls Tryd.prog 56 #[.string s] W fun e w' => e = .returned (.agg #[.int .i64 0, .int .i64 0]) ∧ Below W.heap.size W w' := fun W hW => by
    have h := pt.check_any s W (by rw [hS]; omega) hW
    rw [hS, (pt.scan_txt zs hv).1, ← hS] at h
    exact h
  have HBD : Hid (∀ W, Calls Tryd.prog 17 #[.agg #[.int .i64 0, .int .i64 0]] W fun e w' => e = .returned (.bool false) ∧ Below W.heap.size W w') := Lib.hid (fun W => pt.bad_any W 0 0)
  rw [← hS] at hs ⊢
  have hmk := pt.mk_bytes s.size hs
  have HX := Lib.hid hx; have HSR := Lib.hid hsr; have HT := Lib.hid hT; have HR := Lib.hid hR; have HAH := Lib.hid hah; have HCK := Lib.hid hchk; have HV := Lib.hid hv
  have D0 : Hid (Dc w X c' (tbl c) (dcW w X c')) := Lib.hid (Dc.new hx)
  clear hx hsr hT hR hah hchk hv hS
  go_enter Tryd.func31, Tryd.ntmps31
  go_wp2_with (first
    | (go_at_call 56; refine (HCK.out _ (HT.out.below D0.out.b)).mono ?_; rintro e1 w1 ⟨rfl, hb1⟩; have D1 := Lib.hid (D0.out.below hb1); clear hb1; obtain ⟨_, z0, z1, z2, z3⟩ := pt.f2_new w1 0 0 30)
    | (go_at_call 17; refine (HBD.out _).mono ?_; rintro e2 w2 ⟨rfl, hb2⟩; have D2 := Lib.hid ((D1.out.below ((Below.refl _ _).alloc (Nat.le_refl _) (.cells #[.int .i64 0, .int .i64 0] 30))).below hb2); clear hb2))
  have hle := D2.out.le
  have hitle : w.heap.size + 1 + 1 ≤ (w2.heap.size + 1) := by omega
  go_loopw [7] (fun v wr => ∃ (pos : Nat) (zr : List Int) (pre : List UInt8), wr.heap[(w2.heap.size + 1)]? = some (.stringIter s pos) ∧ pos ≤ s.size ∧ pre.length ≤ pos ∧ pt.Ahead s pos zr [] ∧ zr.all validRune = true ∧ R = (pre ++ (senc c pos zr).1, (senc c pos zr).2) ∧ wr.ownsRow (w.heap.size + 1 + 1) 5 1 v pre.length (bv pre) ∧ Dc w X c' (tbl c) wr) (fun _ wr => s.size - wr.iterPos (w2.heap.size + 1))
  case atStart =>
    have h1 : Below w2.heap.size w2 (w2.alloc (.cells (madeCells #[.int .u8 0] s.size) 5)) := (Below.refl _ _).alloc (Nat.le_refl _) _
    have h2 : Below (w2.alloc (.cells (madeCells #[.int .u8 0] s.size) 5)).heap.size (w2.alloc (.cells (madeCells #[.int .u8 0] s.size) 5)) ((w2.alloc (.cells (madeCells #[.int .u8 0] s.size) 5)).iter s 0) := (Below.refl _ _).alloc (Nat.le_refl _) _
    refine ⟨0, zs, [], ?_, Nat.zero_le _, Nat.le_refl _, HAH.out, HV.out, by rw [HR.out]; rfl, ?_, (D2.out.below h1).below h2⟩
    · have := World.iter_heap (w2.alloc (.cells (madeCells #[.int .u8 0] s.size) 5)) s 0
      rw [World.size_alloc] at this
      exact this
    · exact pt.owns_below (World.ownsRow_made w2 _ s.size hle (by unfold maxLen; omega) (by simp [madeCells])) h2
  case round =>
    obtain ⟨pos, zr, pre, hi, hpos, hpl, ha, hvz, hq, hown, hD⟩ := hrel
    have HIT := Lib.hid hi; have HOW := Lib.hid hown; have DA := Lib.hid hD; have HQ := Lib.hid hq
    have hal := pt.ahead_len ha hpos
    cases zr with
    | nil =>
      have hp : ¬ pos < s.size := by simp [pt.nums] at hal; omega
      have hnx : ∀ ty, (Instr.next (.pointer (some ⟨(w2.heap.size + 1), 0, none⟩)) true ty).run Tryd.prog wr = _ := fun ty => run_next_end_at wr (w2.heap.size + 1) s pos ty HIT.out hp
      have hr : R = (pre, none) := by rw [HQ.out]; simp [senc]
      have HRR := Lib.hid hr
      have hcv := pt.conv_row wr (w.heap.size + 1 + 1) _ (pre.map fun b => (b.toNat : Int)) (by rw [List.length_map, List.map_map]; exact HOW.out)
      rw [str_bytes] at hcv
      obtain ⟨T, hTT⟩ : ∃ T, (⟨pre.toArray⟩ : ByteArray) = T := ⟨_, rfl⟩
      rw [hTT] at hcv
      have HTT := Lib.hid hTT
      obtain ⟨_, ⟨_, f0, f1, f2, f3⟩, _, _⟩ := DA.out
      clear hi hown hD hq ha hvz hr hal hTT
      go_wp2_with fail
      refine bodyPost_ret (v := .tuple #[.string T, .agg #[.int .i64 0, .int .i64 0]]) (by simp [results, Tryd.results31, go_sem, f0, f1]) rfl ⟨by rw [HRR.out, ← HTT.out]; rfl, ?_⟩
      exact (DA.out.b.setCell (p := ⟨w.heap.size + 1, 0, none⟩) (Nat.le_succ _) _).setCell (p := ⟨w.heap.size + 1, 1, none⟩) (Nat.le_succ _) _
    | cons x zr =>
      have hvx : validRune x = true := List.all_eq_true.1 hvz x (List.mem_cons_self ..)
      have hvr : zr.all validRune = true := by rw [List.all_cons, Bool.and_eq_true] at hvz; exact hvz.2
      have hdec := pt.decode_ahead ha hpos hvx
      have han := pt.ahead_next ha
      have hl1 := (encodeRuneZ_length x).1
      have hxr := pt.valid_range hvx
      have hp : pos < s.size := by simp [pt.nums] at hal; omega
      have hpe : pos + (encodeRuneZ x).length ≤ s.size := by simp [pt.nums] at hal; omega
      have hnx : ∀ ty, (Instr.next (.pointer (some ⟨(w2.heap.size + 1), 0, none⟩)) true ty).run Tryd.prog wr = _ := fun ty => run_next_any_at wr (w2.heap.size + 1) s pos ty HIT.out hp
      rw [hdec] at hnx
      simp only at hnx
      rw [show ((x.toNat : Nat) : Int) = x by omega] at hnx
      have H1 := Lib.hid (iterAt_heap wr (w2.heap.size + 1) s pos (pos + (encodeRuneZ x).length) HIT.out)
      have O1 := Lib.hid (own_iter HOW.out HIT.out s (pos + (encodeRuneZ x).length))
      have D1' := Lib.hid (Dc.of (c := c') HX.out (below_iterAt DA.out.g hitle s (pos + (encodeRuneZ x).length)))
      have hrv : ∀ W, TE TBr W X (tbl c) → Calls Tryd.prog 21 #[.agg #[X], .int .i32 x] W fun e w' => e = .returned (.tuple #[.int .i64 (if byte c x < 0 then 0 else byte c x), .bool (!decide (byte c x < 0))]) ∧ Below W.heap.size W w' := fun W hW => by
        have h := tbr_reverse W X _ x hW (by rw [tbl_len]; decide)
        rwa [rev_tbl] at h
      have hq := HQ.out
      have HAN := Lib.hid han; have HVR := Lib.hid hvr
      obtain ⟨⟨_, k0, k1, k2, _⟩, ⟨_, f0, f1, f2, f3⟩, _, _⟩ := D1'.out
      have HIB2 : Hid ((w2.heap.size + 1) < wr.heap.size) := Lib.hid (Array.getElem?_eq_some_iff.1 HIT.out).1
      clear hi hown hD ha hvz hvr hal hdec han hvx
      generalize hL : (encodeRuneZ x).length = L at *
      rcases byte_cases c x with ⟨hb, _⟩ | ⟨k, hb, hk, _⟩
      · rw [senc_cons_bad (by omega), List.append_nil] at hq
        rw [hb] at hrv
        have HRR := Lib.hid hq; have HRV := Lib.hid hrv
        clear hq hrv hb hL
        go_wp2_with (go_at_call 21; refine (HRV.out _ D1'.out.t).mono ?_; rintro e3 w3 ⟨rfl, hb3⟩; have D3 := Lib.hid (D1'.out.below hb3); clear hb3; obtain ⟨_, ⟨_, g0, g1, g2, g3⟩, _, _⟩ := D3.out)
        refine bodyPost_ret (v := .tuple #[.string ⟨#[]⟩, .agg #[.int .i64 6, .int .i64 pos]]) (by simp [results, Tryd.results31, go_sem, g0, g1]) rfl ⟨by rw [HRR.out]; rfl, ?_⟩
        exact (D3.out.b.setCell (p := ⟨w.heap.size + 1, 0, none⟩) (Nat.le_succ _) _).setCell (p := ⟨w.heap.size + 1, 1, none⟩) (Nat.le_succ _) _
      · rw [senc_cons_good hb] at hq
        rw [hb] at hrv
        rw [hL] at hq
        have e1 : (if (k : Int) < 0 then (0 : Int) else (k : Int)) = (k : Int) := if_neg (by omega)
        have e2 : (!decide ((k : Int) < 0)) = true := by simp
        rw [e1, e2] at hrv
        have hu8 : IntKind.u8.wrap (k : Int) = (k : Int) := by simp [IntKind.wrap, IntKind.bits, IntKind.signed]; omega
        have hbv : bv (pre ++ [UInt8.ofNat k]) = bv pre ++ [.int .u8 (k : Int)] := by simp [bv, UInt8.toNat_ofNat_of_lt' (show k < UInt8.size by exact hk)]
        have HRR := Lib.hid hq; have HRV := Lib.hid hrv; have HBV := Lib.hid hbv
        clear hq hrv hb hL e1 e2 hbv
        obtain ⟨i0, hi0, hzz⟩ := Option.map_eq_some_iff.1 pt.byte_info
        simp only [Prod.mk.injEq] at hzz
        obtain ⟨hz, hsi, hby⟩ := hzz
        go_wp2_with (first | (go_at_call 21; refine (HRV.out _ D1'.out.t).mono ?_; rintro e3 w3 ⟨rfl, hb3⟩; have D3 := Lib.hid (D1'.out.below hb3); have O3 := Lib.hid (pt.owns_below O1.out hb3); have HB3 := Lib.hid hb3; clear hb3) | (at_builtin; refine wpList_append_own _ rfl _ _ 101 rfl (w.heap.size + 1 + 1) 5 i0 (.int .u8 0) 1 1 Tryd.underlying101 hi0 hz hsi hby rfl (by decide) _ _ _ rfl (O3.out.alloc _) ⟨w3.heap.size, 0, none⟩ 1 1 [.int .u8 (k : Int)] rfl rfl ?c1 ?c2 ?c3 ?c4 ?c5 ?_))
        case c1 =>
          intro j u hj
          match j, hj with
          | 0, hj =>
            simp at hj
            subst hj
            have e : (⟨w3.heap.size, 0, none⟩ : Addr).add 0 = ⟨w3.heap.size, 0, none⟩ := by simp [Addr.add]
            rw [e, World.cell?_alloc_mark]; rfl
          | (j + 1), hj => simp at hj
        case c2 => intro u hu; simp at hu; subst hu; rfl
        case c3 => unfold maxLen; omega
        case c4 => omega
        case c5 => have := D3.out.le; simp; omega
        intro v' w4 hown4 hgrow _
        have HO4 := Lib.hid hown4
        have hsz3 : w2.heap.size + 1 < w3.heap.size := Nat.lt_of_lt_of_le (by rw [iterAt_size]; exact HIB2.out) HB3.out.size
        have i3 : w3.heap[w2.heap.size + 1]? = some (.stringIter s (pos + L)) := (HB3.out.block _ (by rw [iterAt_size]; exact HIB2.out)).trans H1.out
        have i4 : w4.heap[w2.heap.size + 1]? = some (.stringIter s (pos + L)) := by
          rw [hgrow.block _ (by simp; omega) (fun e => kind_it O3.out i3 e.symm), Below.heap_alloc _ _ _ (by omega)]
          exact i3
        have DE := Lib.hid (Dc.of (c := c') HX.out (pt.below_grown D3.out.g D3.out.le O3.out hgrow))
        have HI4 := Lib.hid i4
        clear hown4 i3 i4
        go_wp2_with fail
        go_roundw
        case rel => exact ⟨pos + L, zr, pre ++ [UInt8.ofNat k], HI4.out, hpe, by rw [List.length_append, List.length_singleton]; omega, HAN.out, HVR.out, by rw [HRR.out, List.append_assoc]; rfl, by rw [HBV.out, List.length_append]; exact HO4.out, DE.out⟩
        case measure => rw [iterPos_of HI4.out, iterPos_of HIT.out]; omega
end Go.Proofs.YtiokdeomdeenbaaDoor.sg
