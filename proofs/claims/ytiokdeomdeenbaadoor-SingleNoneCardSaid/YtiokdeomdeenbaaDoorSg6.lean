/- Decode of the landed single: a contract. -/
import Derived.Test.YtiokdeomdeenbaaDoorSg5
import Derived.Test.YtiokdeomdeenbaaDoorSg2
namespace Go.Proofs.YtiokdeomdeenbaaDoor.sg
open Go.RowKit Go.Lib
open Go.Proofs.YtiokdeomdeenbaaDoor.tb
set_option linter.unusedVariables false
theorem lk_tbl {c : Int} (hs : Srt (tbl c)) (n : Nat) (h : n < 256) : lk (tbl c) (n : Int) = some (sgn c n) :=
  (lk_mem hs _ _).2 (List.mem_map.2 ⟨n, List.mem_range.2 h, rfl⟩)
theorem rev_from (c p : Int) : ∀ f k, rev ((List.range' k f).map fun (n : Nat) => ((n : Int), sgn c n)) p = byFrom c p f k
  | 0, k => rfl
  | f + 1, k => by
    rw [List.range'_succ, List.map_cons]
    unfold rev byFrom
    simp only
    rw [rev_from c p f (k + 1)]
theorem rev_tbl (c p : Int) : rev (tbl c) p = byte c p := by
  unfold tbl byte
  rw [List.range_eq_range']
  exact rev_from c p 256 0
theorem mk_runes (n : Nat) (h : n ≤ 4000) (w : World) : (Instr.makeSlice 65 (.int .i64 0) (.int .i64 (n : Int))).run Tryd.prog w = .ok (.slice (some ⟨w.heap.size, 0, none⟩) 0 n) (w.alloc (.cells (madeCells #[.int .i32 0] n) 21)) := by
  obtain ⟨i, hi, hzz⟩ := Option.map_eq_some_iff.1 pt.rune_info
  simp only [Prod.mk.injEq] at hzz
  obtain ⟨hz, hs, hb⟩ := hzz
  have hr := run_make (P := Tryd.prog) w 65 21 i (.int .i32 0) Tryd.underlying65 hi hz .i64 .i64 0 (n : Int) (Int.le_refl _) (by omega) (by rw [hb]; omega) (by omega)
  simp only [Int.toNat_natCast, hs, Nat.mul_one] at hr
  exact hr
def rv (l : List Int) : List Value := l.map (Value.int .i32)
theorem rv_snoc (l : List Int) (p : Int) : rv (l ++ [p]) = rv l ++ [.int .i32 p] := by simp [rv]
/-- A row of signs of the call's own is a row. -/
theorem own_rowI {w : World} {B : Nat} {e : TypeId} {v : Value} {l : List Int} (h : w.ownsRow B e 1 v l.length (rv l)) : ∃ A c, v = .slice A l.length c ∧ pt.RowI w A l.length c l := by
  obtain ⟨h1, ⟨rfl, h3⟩ | ⟨g, cap, cur, rfl, hb, hg, hn, hm, hs, ht⟩⟩ := h
  · rw [h3]; exact ⟨none, 0, rfl, .inl ⟨rfl, rfl, rfl, List.length_eq_zero_iff.1 h3⟩⟩
  · refine ⟨_, cap, rfl, .inr ⟨⟨g, 0, none⟩, rfl, hn, hm, rfl, fun i hi => ?_⟩⟩
    have e : (⟨g, 0, none⟩ : Addr).add i = ⟨g, i, none⟩ := by rw [Addr.add_lit, Nat.zero_add]
    have hu : (rv l)[i]? = some (.int .i32 (l.getD i 0)) := by simp [rv, List.getElem?_eq_getElem hi, List.getD]
    rw [e]
    rw [← ht, List.getElem?_take, if_pos (by omega), Array.getElem?_toList] at hu
    simp only [World.cell?, hg, Option.isSome_none, Bool.false_eq_true, if_false]
    exact hu
/-- The world in which the loop begins. -/
def dcW (w : World) (X : Value) (c : Int) : World := (w.alloc (.cells #[X, .int .i64 c] 56)).alloc (.cells #[.int .i64 0, .int .i64 0] 30)
theorem dcW_size (w : World) (X : Value) (c : Int) : (dcW w X c).heap.size = w.heap.size + 1 + 1 := by simp [dcW]
/-- What stands while a charset's text is made. -/
structure Dc (w : World) (X : Value) (c : Int) (l : List (Int × Int)) (W : World) : Prop where
  k : K2 W w.heap.size 56 X (.int .i64 c)
  f : pt.F2 W (w.heap.size + 1) 0 0
  t : TE TBr W X l
  b : Below w.heap.size w W
  g : Below (w.heap.size + 1 + 1) (dcW w X c) W
theorem Dc.of {w W : World} {X : Value} {c : Int} {l : List (Int × Int)} (h : TE TBr w X l) (g : Below (w.heap.size + 1 + 1) (dcW w X c) W) : Dc w X c l W := by
  have h1 : Below (w.alloc (.cells #[X, .int .i64 c] 56)).heap.size (w.alloc (.cells #[X, .int .i64 c] 56)) (dcW w X c) := (Below.refl _ _).alloc (Nat.le_refl _) _
  have h2 : Below w.heap.size w (dcW w X c) := ((Below.refl _ _).alloc (Nat.le_refl _) _).alloc (by simp) _
  have h3 := h2.trans (g.mono (by omega))
  refine ⟨((k2_new w _ _ _).below h1 (by simp)).below g (by omega), ?_, te_below h h3, h3, g⟩
  have := pt.f2_new (w.alloc (.cells #[X, .int .i64 c] 56)) 0 0 30
  rw [World.size_alloc] at this
  exact pt.F2.below this g (by omega)
theorem Dc.below {w W W' : World} {X : Value} {c : Int} {l : List (Int × Int)} (h : Dc w X c l W) (hb : Below W.heap.size W W') : Dc w X c l W' :=
  ⟨h.k.below hb h.k.lt, h.f.below hb h.f.lt, te_below h.t hb, h.b.trans (hb.mono h.b.size), h.g.trans (hb.mono (by have := h.g.size; rw [dcW_size] at this; exact this))⟩
theorem Dc.new {w : World} {X : Value} {c : Int} {l : List (Int × Int)} (h : TE TBr w X l) : Dc w X c l (dcW w X c) := Dc.of h (Below.refl _ _)
theorem Dc.le {w W : World} {X : Value} {c : Int} {l : List (Int × Int)} (h : Dc w X c l W) : w.heap.size + 1 + 1 ≤ W.heap.size := by have := h.g.size; rw [dcW_size] at this; exact this
set_option maxRecDepth 100000 in
set_option maxHeartbeats 4000000 in
theorem decode_any (c c' : Int) (X : Value) (s : ByteArray) (w : World) (h0 : 0 ≤ c) (h1 : c ≤ 3) (hs : s.size ≤ 4000) (hx : TE TBr w X (tbl c)) :
    Calls Tryd.prog 30 #[.agg #[X, .int .i64 c'], .string s] w fun e w' => e = .returned (.tuple #[.string (pt.txt (sdec c s.data.toList)), .agg #[.int .i64 0, .int .i64 0]]) ∧ Below w.heap.size w w' := by
  have hl : s.data.toList.length = s.size := by rw [Array.length_toList]; rfl
  have hsr := tb.tab.srt _ _ _ hx
  have h1c := TE.one hx
  have hval := sdec_valid h0 h1 s.data.toList
  obtain ⟨i0, hi0, hzz⟩ := Option.map_eq_some_iff.1 pt.rune_info
  simp only [Prod.mk.injEq] at hzz
  obtain ⟨hz, hsi, hby⟩ := hzz
  have hmk := mk_runes s.size hs
  have HL := Lib.hid hl; have HX := Lib.hid hx; have HSR := Lib.hid hsr; have HVAL := Lib.hid hval
  have D0 : Hid (Dc w X c' (tbl c) (dcW w X c')) := Lib.hid (Dc.new hx)
  have HST : Hid (((dcW w X c').alloc (.cells (madeCells #[.int .i32 0] s.size) 21)).ownsRow (w.heap.size + 1 + 1) 21 1 (.slice (some ⟨w.heap.size + 1 + 1, 0, none⟩) 0 s.size) 0 []) := Lib.hid (by
    have e : (dcW w X c').heap.size = w.heap.size + 1 + 1 := by simp [dcW]
    have h := World.ownsRow_made (base := w.heap.size + 1 + 1) (e := 21) (size := 1) (dcW w X c') (madeCells #[.int .i32 0] s.size) s.size (by omega) (by unfold maxLen; omega) (by simp [madeCells])
    rwa [e] at h)
  clear hl hx hsr hval
  obtain ⟨⟨_, z0, z1, z2, _⟩, ⟨_, z3, z4, z5, z6⟩, _, _⟩ := D0.out
  go_enter Tryd.func30, Tryd.ntmps30
  go_wp2_with fail
  go_loopw [6, 17] (fun v i wr => ∃ j : Nat, j ≤ s.size ∧ i = .int .i64 j ∧ wr.ownsRow (w.heap.size + 1 + 1) 21 1 v j (rv (sdec c (s.data.toList.take j))) ∧ Dc w X c' (tbl c) wr) (fun _ i _ => s.size - (RowKit.intOf i).toNat)
  case atStart => exact ⟨0, Nat.zero_le _, rfl, HST.out, D0.out.below ((Below.refl _ _).alloc (Nat.le_refl _) _)⟩
  case round =>
    obtain ⟨j, hj, rfl, hown, hD⟩ := hrel
    have HOW := Lib.hid hown
    have DA := Lib.hid hD
    have DB := Lib.hid (hD.below (Below.refl _ _).drew)
    clear hown hD
    by_cases hlt : j < s.size
    · have htk : s.data.toList.take (j + 1) = s.data.toList.take j ++ [s[j]] := by
        rw [List.take_add_one, List.getElem?_eq_getElem (by have := HL.out; omega)]; simp; rfl
      have hb := (s[j]).toNat_lt
      have hsn : rv (sdec c (s.data.toList.take (j + 1))) = rv (sdec c (s.data.toList.take j)) ++ [.int .i32 (sgn c (s[j]).toNat)] := by
        rw [htk, sdec_app, ← rv_snoc]; rfl
      have hfw : ∀ W, TE TBr W X (tbl c) → Calls Tryd.prog 19 #[.agg #[X], .int .i64 (IntKind.i64.wrap ((s[j]).toNat : Int))] W fun e w' => e = .returned (.tuple #[.int .i32 (sgn c (s[j]).toNat), .bool true]) ∧ Below W.heap.size W w' := fun W hW => by
        rw [show IntKind.i64.wrap ((s[j]).toNat : Int) = ((s[j]).toNat : Int) from wrap64 (by omega) (by omega)]
        exact (tbr_forward W X _ _ hW (by rw [tbl_len]; decide)).mono fun e w' h => ⟨by rw [h.1, lk_tbl HSR.out _ hb]; rfl, h.2⟩
      generalize sgn c (s[j]).toNat = S at *
      have HSN := Lib.hid hsn; have HFW := Lib.hid hfw
      clear htk hsn hfw
      obtain ⟨⟨_, k0, k1, k2, _⟩, _⟩ := DA.out
      go_wp2_with fail
      go_region_held3 (fun w' => w'.cell? ⟨w.heap.size, 0, none⟩ = some X) (go_keep) (first | (go_at_call 19; refine (HFW.out _ DB.out.t).mono ?_; rintro e1 w1 ⟨rfl, hb1⟩; have DC := Lib.hid (DB.out.below hb1); have OC := Lib.hid (pt.owns_below (pt.owns_below HOW.out (Below.refl _ _).drew) hb1); obtain ⟨⟨_, m0, m1, m2, _⟩, _⟩ := DC.out; clear hb1))
      all_goals go_wp2_with (at_builtin; refine wpList_append_own _ rfl _ _ 65 rfl (w.heap.size + 1 + 1) 21 i0 (.int .i32 0) 1 4 Tryd.underlying65 hi0 hz hsi hby rfl (by decide) _ _ _ rfl (OC.out.alloc _) ⟨w1.heap.size, 0, none⟩ 1 1 [.int .i32 S] rfl rfl ?c1 ?c2 ?c3 ?c4 ?c5 ?_)
      case c1 =>
        intro j u hj
        match j, hj with
        | 0, hj =>
          simp at hj
          subst hj
          have e : (⟨w1.heap.size, 0, none⟩ : Addr).add 0 = ⟨w1.heap.size, 0, none⟩ := by simp [Addr.add]
          rw [e, World.cell?_alloc_mark]; rfl
        | (j + 1), hj => simp at hj
      case c2 => intro u hu; simp at hu; subst hu; rfl
      case c3 => unfold maxLen; omega
      case c4 => omega
      case c5 => have := DC.out.le; simp; omega
      intro v' w2 hown2 hgrow _
      have HO2 := Lib.hid hown2
      have DE := Lib.hid (Dc.of (c := c') HX.out (pt.below_grown DC.out.g DC.out.le OC.out hgrow))
      clear hown2
      go_wp2_with fail
      go_roundw
      case rel => exact ⟨j + 1, by omega, by go_num, by rw [HSN.out]; exact HO2.out, DE.out⟩
      case measure => simp [RowKit.intOf]; omega
    · obtain rfl : j = s.size := by omega
      have htk : s.data.toList.take s.size = s.data.toList := List.take_of_length_le (by have := HL.out; omega)
      rw [htk] at HOW
      have hlen : (sdec c s.data.toList).length = s.size := by rw [sdec_len]; exact HL.out
      rw [← hlen] at HOW
      obtain ⟨A1, c1, rfl, hr⟩ := own_rowI HOW.out
      rw [hlen] at hr
      have hv := HVAL.out
      have htx : ∀ W, Below wr.heap.size wr W → Calls Tryd.prog 55 #[.slice A1 (sdec c s.data.toList).length c1] W fun e w' => e = .returned (.tuple #[.string (pt.txt (sdec c s.data.toList)), .bool true]) ∧ Below W.heap.size W w' := fun W hW => by
        have h := pt.text_row A1 s.size c1 _ W (hr.below hW) (by omega)
        rw [hv, if_pos rfl] at h
        rwa [hlen]
      obtain ⟨T, hT⟩ : ∃ T, T = pt.txt (sdec c s.data.toList) := ⟨_, rfl⟩
      rw [← hT] at htx
      have HT := Lib.hid hT
      rw [hlen] at htx
      rw [hlen]
      have HTX := Lib.hid htx
      clear htk hr hv htx hT
      go_wp2_with (go_at_call 55; refine (HTX.out _ (Below.refl _ _)).mono ?_; rintro e1 w1 ⟨rfl, hb1⟩; have DC := Lib.hid (DA.out.below hb1); obtain ⟨_, ⟨_, f0, f1, f2, f3⟩, _, _⟩ := DC.out)
      refine bodyPost_ret (v := .tuple #[.string T, .agg #[.int .i64 0, .int .i64 0]]) (by simp [results, Tryd.results30, go_sem, f0, f1]) rfl ⟨by rw [HT.out], ?_⟩
      exact (DC.out.b.setCell (p := ⟨w.heap.size + 1, 0, none⟩) (Nat.le_succ _) _).setCell (p := ⟨w.heap.size + 1, 1, none⟩) (Nat.le_succ _) _
set_option maxRecDepth 100000 in
set_option maxHeartbeats 4000000 in
/-- Without codes: no byte is decoded. -/
theorem decode_none (c' : Int) (X : Value) (s : ByteArray) (w : World) (hs : s.size ≤ 4000) (hx : TE TBr w X []) :
    Calls Tryd.prog 30 #[.agg #[X, .int .i64 c'], .string s] w fun e w' => e = .returned (.tuple #[.string ⟨#[]⟩, .agg #[.int .i64 (if s.size = 0 then 0 else 2), .int .i64 0]]) ∧ Below w.heap.size w w' := by
  have h1c := TE.one hx
  have hmk := mk_runes s.size hs
  have HX := Lib.hid hx
  have D0 : Hid (Dc w X c' [] (dcW w X c')) := Lib.hid (Dc.new hx)
  have HFW : Hid (∀ W n, TE TBr W X [] → Calls Tryd.prog 19 #[.agg #[X], .int .i64 n] W fun e w' => e = .returned (.tuple #[.int .i32 0, .bool false]) ∧ Below W.heap.size W w') := Lib.hid (fun W n h => (tbr_forward W X [] n h (by decide)).mono fun e w' hh => ⟨by rw [hh.1]; rfl, hh.2⟩)
  have HTX : Hid (∀ W, Calls Tryd.prog 55 #[.slice (some ⟨w.heap.size + 1 + 1, 0, none⟩) 0 s.size] W fun e w' => e = .returned (.tuple #[.string ⟨#[]⟩, .bool true]) ∧ Below W.heap.size W w') := Lib.hid (fun W => by
    have h := pt.text_row (some ⟨w.heap.size + 1 + 1, 0, none⟩) 0 s.size [] W (.inr ⟨_, rfl, Nat.zero_le _, by unfold maxLen; omega, rfl, fun i hi => by omega⟩) (by omega)
    exact h)
  clear hx
  obtain ⟨⟨_, z0, z1, z2, _⟩, ⟨_, z3, z4, z5, z6⟩, _, _⟩ := D0.out
  have hK0 : IntKind.i64.wrap 0 = 0 := rfl
  go_enter Tryd.func30, Tryd.ntmps30
  go_wp2_with fail
  go_loopw [6, 17] (fun v i wr => i = .int .i64 0 ∧ v = .slice (some ⟨w.heap.size + 1 + 1, 0, none⟩) 0 s.size ∧ Dc w X c' [] wr) (fun _ _ _ => 0)
  case atStart => exact ⟨rfl, rfl, D0.out.below ((Below.refl _ _).alloc (Nat.le_refl _) _)⟩
  case round =>
    obtain ⟨rfl, rfl, hD⟩ := hrel
    have DA := Lib.hid hD
    have DB := Lib.hid (hD.below (Below.refl _ _).drew)
    clear hD
    by_cases hz : s.size = 0
    · have HZ := Lib.hid hz
      have hz' : ¬ 0 < s.size := by omega
      clear hz
      go_wp2_with (go_at_call 55; refine (HTX.out _).mono ?_; rintro e1 w1 ⟨rfl, hb1⟩; have DC := Lib.hid (DA.out.below hb1); obtain ⟨_, ⟨_, f0, f1, f2, f3⟩, _, _⟩ := DC.out)
      refine bodyPost_ret (v := .tuple #[.string ⟨#[]⟩, .agg #[.int .i64 0, .int .i64 0]]) (by simp [results, Tryd.results30, go_sem, f0, f1]) rfl ⟨rfl, ?_⟩
      exact (DC.out.b.setCell (p := ⟨w.heap.size + 1, 0, none⟩) (Nat.le_succ _) _).setCell (p := ⟨w.heap.size + 1, 1, none⟩) (Nat.le_succ _) _
    · have HZ := Lib.hid hz
      have hz' : 0 < s.size := by omega
      clear hz
      obtain ⟨⟨_, k0, k1, k2, _⟩, _⟩ := DA.out
      go_wp2_with fail
      go_region_held3 (fun w' => w'.cell? ⟨w.heap.size, 0, none⟩ = some X) (go_keep) (first | (go_at_call 19; refine (HFW.out _ _ DB.out.t).mono ?_; rintro e1 w1 ⟨rfl, hb1⟩; have DC := Lib.hid (DB.out.below hb1); obtain ⟨⟨_, m0, m1, m2, _⟩, ⟨_, f0, f1, f2, f3⟩, _, _⟩ := DC.out; clear hb1))
      all_goals go_wp2_with fail
      refine bodyPost_ret (v := .tuple #[.string ⟨#[]⟩, .agg #[.int .i64 2, .int .i64 0]]) (by simp [results, Tryd.results30, go_sem, f0, f1]) rfl ⟨rfl, ?_⟩
      exact (DC.out.b.setCell (p := ⟨w.heap.size + 1, 0, none⟩) (Nat.le_succ _) _).setCell (p := ⟨w.heap.size + 1, 1, none⟩) (Nat.le_succ _) _
end Go.Proofs.YtiokdeomdeenbaaDoor.sg
