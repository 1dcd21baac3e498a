/- The landed frame: what reads its name, its size, its flags: contracts. -/
import Derived.Test.YtkhajafjieofhaaFlF
import Derived.Test.YtkhajafjieofhaaFlC
namespace Go.Proofs.Ytkhajafjieofhaa.fl
open Go.RowKit Go.Lib
open Go.Proofs.Ytkhajafjieofhaa.un (bs bs_list bs_size bs_app bs_back size_list wrap64)
open Go.Proofs.Ytkhajafjieofhaa.fr Go.Proofs.Ytkhajafjieofhaa.bk
open Go.Proofs.Ytkhajafjieofhaa.oct (Rd Upd num num7)
set_option linter.unusedVariables false
/-- What changed: these two blocks alone, and what is new. -/
structure Up2 (p b : Nat) (w w' : World) : Prop where
  os : w'.os = w.os
  tape : w'.tape = w.tape
  output : w'.output = w.output
  size : w.heap.size ≤ w'.heap.size
  block : ∀ i, i < w.heap.size → i ≠ p → i ≠ b → w'.heap[i]? = w.heap[i]?
section
variable {p b : Nat} {x y z : World}
theorem Up2.refl (p b : Nat) (w : World) : Up2 p b w w := ⟨rfl, rfl, rfl, Nat.le_refl _, fun _ _ _ _ => rfl⟩
theorem Up2.trans (h : Up2 p b x y) (k : Up2 p b y z) : Up2 p b x z :=
  ⟨k.os.trans h.os, k.tape.trans h.tape, k.output.trans h.output, Nat.le_trans h.size k.size, fun i hi h1 h2 => (k.block i (Nat.lt_of_lt_of_le hi h.size) h1 h2).trans (h.block i hi h1 h2)⟩
theorem Up2.of (p b : Nat) (h : Below x.heap.size x y) : Up2 p b x y := ⟨h.os, h.tape, h.output, h.size, fun i hi _ _ => h.block i hi⟩
theorem Up2.ofr (p : Nat) (h : Upd b x y) : Up2 p b x y := ⟨h.os, h.tape, h.output, h.size, fun i hi _ h2 => h.block i hi h2⟩
theorem Up2.ofl (b : Nat) (h : Upd p x y) : Up2 p b x y := ⟨h.os, h.tape, h.output, h.size, fun i hi h1 _ => h.block i hi h1⟩
theorem Up2.setp (h : Up2 p b x y) (o : Nat) (u : Value) : Up2 p b x (y.setCell ⟨p, o, none⟩ u) := h.trans (Up2.ofl b ((Upd.refl p y).setCell o u))
/-- Seen from before block p was. -/
theorem Up2.from (h : Upd b x y) (k : Up2 p b y z) (hp : x.heap.size ≤ p) : Upd b x z :=
  ⟨k.os.trans h.os, k.tape.trans h.tape, k.output.trans h.output, Nat.le_trans h.size k.size, fun i hi hb => (k.block i (Nat.lt_of_lt_of_le hi h.size) (by omega) hb).trans (h.block i hi hb)⟩
theorem Up2.bk {vs : List Value} {c : Nat} (h : Bk x c vs) (hu : Up2 p b x y) (h1 : c ≠ p) (h2 : c ≠ b) : Bk y c vs :=
  ⟨Nat.lt_of_lt_of_le h.lt hu.size, fun i v hv => (World.cell?_of_block (w := x) (hu.block c h.lt h1 h2)).trans (h.c i v hv), fun i => (World.frozen?_of_block (w := x) (hu.block c h.lt h1 h2)).trans (h.f i)⟩
theorem Up2.rs {t : ByteArray} {q : Int} {st : RS} {c : Nat} (h : Rs x c t q st) (hu : Up2 p b x y) (h1 : c ≠ p) (h2 : c ≠ b) : Rs y c t q st := by
  have G : ∀ k e a, Rd x c t k q e a → Rd y c t k q e a := fun k e a h => by
    have H : ∀ o, y.cell? ⟨c, o, none⟩ = x.cell? ⟨c, o, none⟩ := fun o => World.cell?_of_block (w := x) (hu.block c h.lt h1 h2)
    have F : ∀ o, y.frozen? ⟨c, o, none⟩ = x.frozen? ⟨c, o, none⟩ := fun o => World.frozen?_of_block (w := x) (hu.block c h.lt h1 h2)
    exact ⟨Nat.lt_of_lt_of_le h.lt hu.size, (H 0).trans h.c0, (H 1).trans h.c1, (H 2).trans h.c2, (H 3).trans h.c3, (H 4).trans h.c4, (F 1).trans h.f1, (F 3).trans h.f3, (F 4).trans h.f4⟩
  cases st with
  | on k => exact ⟨G _ _ _ h.1, h.2⟩
  | off k a => exact ⟨G _ _ _ h.1, h.2⟩
end
theorem upd_bk {c : Nat} {w w' : World} {p : Nat} {vs : List Value} (h : Bk w p vs) (hu : Upd c w w') (hne : p ≠ c) : Bk w' p vs :=
  ⟨Nat.lt_of_lt_of_le h.lt hu.size, fun i v hv => (hu.cell (p := ⟨p, i, none⟩) h.lt hne).trans (h.c i v hv), fun i => (hu.frozen (p := ⟨p, i, none⟩) h.lt hne).trans (h.f i)⟩
/-- How many letters stand ahead. -/
def prp (s : ByteArray) : Nat := (noL s.data.toList).getD s.size
theorem pp_prp (s : ByteArray) : Pp s (prp s) := by
  unfold prp
  cases h : noL s.data.toList with
  | none =>
    unfold noL at h
    rw [List.findIdx?_eq_none_iff] at h
    refine ⟨Nat.le_refl _, fun j hj => ?_, fun h => absurd h (Nat.lt_irrefl _)⟩
    have := h (s.data.toList[j]'(by rw [size_list]; exact hj)) (List.getElem_mem _)
    rw [bt_lst s j (by rw [size_list]; exact hj)] at this
    simpa using this
  | some i =>
    unfold noL at h
    rw [List.findIdx?_eq_some_iff_getElem] at h
    obtain ⟨hi, h1, h2⟩ := h
    rw [bt_lst s i hi] at h1
    refine ⟨by rw [size_list] at hi; exact Nat.le_of_lt hi, fun j hj => ?_, fun _ => by simpa using h1⟩
    have := h2 j hj
    rw [bt_lst s j (Nat.lt_trans hj hi)] at this
    simpa using this
def namS (v : Int) (t : ByteArray) (q : Int) (k : Nat) : ByteArray × RS :=
  if k + ltrs v ≤ t.size then
    if nmd v ((t.data.toList.drop k).take (ltrs v)) = true then (t.extract k (k + ltrs v), .on (k + ltrs v))
    else (⟨#[]⟩, .off (k + prp (t.extract k (k + ltrs v))) (q + (k + prp (t.extract k (k + ltrs v)) : Nat)))
  else (⟨#[]⟩, .off k (q + t.size))
theorem ltrs_le (v : Int) : ltrs v ≤ 4 := by unfold ltrs; split; omega; split <;> omega
set_option maxRecDepth 100000 in
set_option maxHeartbeats 1000000 in
theorem name_rs {t : ByteArray} {q : Int} (hz : Sz t q) (v : Int) (k b : Nat) (w : World) (h : Rs w b t q (.on k)) : Calls Try.prog 46 #[.int .i64 v, .pointer (some ⟨b, 0, none⟩)] w fun e w' => e = .returned (.string (namS v t q k).1) ∧ Rs w' b t q (namS v t q k).2 ∧ Upd b w w' := by
  have R0 := Lib.hid h
  have HL := Lib.hid (fun W => letters_any v W)
  have hk := h.2
  have h9 := ltrs_le v
  have h9t := hz.t
  by_cases hn : k + ltrs v ≤ t.size
  · have hsz : (t.extract k (k + ltrs v)).size = ltrs v := by rw [ByteArray.size_extract]; omega
    have HPK := Lib.hid (oct.peek_m w b t k (ltrs v) (t.size - k) q 0 (ltrs v : Int) h.1 (by omega) hz.max (.inr (.inl ⟨rfl, by omega⟩)))
    have HN := Lib.hid (fun W => named_any v (t.extract k (k + ltrs v)) W (by omega))
    rw [list_ext] at HN
    have n1 : (((t.extract k (k + ltrs v)).size : Int) == (ltrs v : Int)) = true := by rw [hsz]; simp
    by_cases hm : nmd v ((t.data.toList.drop k).take (ltrs v)) = true
    · have e : namS v t q k = (t.extract k (k + ltrs v), .on (k + ltrs v)) := by unfold namS; rw [if_pos hn, if_pos hm]
      rw [e]
      have HT1 := Lib.hid (fun W h => take_rs hz (ltrs v) (.on k) W b h)
      rw [tak_y hn] at HT1
      rw [hm] at HN
      change Calls _ _ _ _ fun e w' => e = .returned (.string (t.extract k (k + ltrs v))) ∧ Rs w' b t q (.on (k + ltrs v)) ∧ _
      change Hid (∀ (W : World), _ → Calls _ _ _ W fun e w' => e = .returned (.string (t.extract k (k + ltrs v))) ∧ Rs w' b t q (.on (k + ltrs v)) ∧ _) at HT1
      generalize t.extract k (k + ltrs v) = X at *
      generalize RS.on (k + ltrs v) = S at *
      generalize RS.on k = S0 at *
      generalize ((ltrs v : Nat) : Int) = L at *
      clear e hm hsz hn h9 hk h hz h9t
      go_enter Try.func46, Try.ntmps46
      go_wp2_with (first
        | (go_at_call 16; refine (HL.out _).mono ?_; rintro e1 w1 ⟨rfl, rfl⟩)
        | (go_at_call 44; refine (HPK.out).mono ?_; rintro e2 w2 ⟨rfl, hb2⟩; have R2 := Lib.hid (Rs.below (R0.out) hb2); have U2 := Lib.hid (upd_of b hb2); clear hb2 HPK)
        | (go_at_call 18; refine (HN.out _).mono ?_; rintro e4 w4 ⟨rfl, rfl⟩)
        | (go_at_call 49; refine (HT1.out _ R2.out).mono ?_; rintro e3 w3 ⟨rfl, hr3, hu3⟩; have R3 := Lib.hid hr3; have U3 := Lib.hid (U2.out.trans hu3); clear hr3 hu3 R2))
      go_ret
      exact ⟨rfl, R3.out, U3.out⟩
    · have e : namS v t q k = (⟨#[]⟩, .off (k + prp (t.extract k (k + ltrs v))) (q + (k + prp (t.extract k (k + ltrs v)) : Nat))) := by unfold namS; rw [if_pos hn, if_neg hm]
      rw [e]
      have hm : nmd v ((t.data.toList.drop k).take (ltrs v)) = false := by simpa using hm
      have hp := pp_prp (t.extract k (k + ltrs v))
      have hple := hp.le
      have HP := Lib.hid (fun W => proper_any (t.extract k (k + ltrs v)) _ W (by omega) hp)
      have hpn : k + prp (t.extract k (k + ltrs v)) ≤ t.size := by omega
      have HT1 := Lib.hid (fun W h => take_rs hz (prp (t.extract k (k + ltrs v))) (.on k) W b h)
      rw [tak_y hpn] at HT1
      have HA := Lib.hid (fun W h => at_rs hz (.on (k + prp (t.extract k (k + ltrs v)))) W b h)
      have HF := Lib.hid (fun W h => fail_rs (t := t) (q := q) 1 (plS q (.on (k + prp (t.extract k (k + ltrs v))))) (.inr rfl) (.on (k + prp (t.extract k (k + ltrs v)))) W b h)
      have HT2 := Lib.hid (fun W h => take_rs hz (ltrs v) (.off (k + prp (t.extract k (k + ltrs v))) (q + (k + prp (t.extract k (k + ltrs v)) : Nat))) W b h)
      change Hid (∀ (W : World), _ → Calls _ _ _ W fun e w' => e = .returned (.tuple #[]) ∧ Rs w' b t q (.off (k + prp (t.extract k (k + ltrs v))) (q + (k + prp (t.extract k (k + ltrs v)) : Nat))) ∧ _) at HF
      change Hid (∀ (W : World), _ → Calls _ _ _ W fun e w' => e = .returned (.string ⟨#[]⟩) ∧ Rs w' b t q (.off (k + prp (t.extract k (k + ltrs v))) (q + (k + prp (t.extract k (k + ltrs v)) : Nat))) ∧ _) at HT2
      change Hid (∀ (W : World), _ → Calls _ _ _ W fun e w' => e = .returned (.string (t.extract k (k + prp (t.extract k (k + ltrs v))))) ∧ Rs w' b t q (.on (k + prp (t.extract k (k + ltrs v)))) ∧ _) at HT1
      change Calls _ _ _ _ fun e w' => e = .returned (.string ⟨#[]⟩) ∧ Rs w' b t q (.off (k + prp (t.extract k (k + ltrs v))) (q + (k + prp (t.extract k (k + ltrs v)) : Nat))) ∧ _
      rw [hm] at HN
      generalize t.extract k (k + prp (t.extract k (k + ltrs v))) = Z at *
      generalize RS.off (k + prp (t.extract k (k + ltrs v))) (q + (k + prp (t.extract k (k + ltrs v)) : Nat)) = S at *
      generalize plS q (RS.on (k + prp (t.extract k (k + ltrs v)))) = P at *
      generalize RS.on (k + prp (t.extract k (k + ltrs v))) = S1 at *
      clear e hm hsz hn h9 hk h hz hp hple hpn h9t
      generalize ((prp (t.extract k (k + ltrs v)) : Nat) : Int) = p at *
      generalize t.extract k (k + ltrs v) = X at *
      generalize RS.on k = S0 at *
      generalize ((ltrs v : Nat) : Int) = L at *
      go_enter Try.func46, Try.ntmps46
      go_wp2_with (first
        | (go_at_call 16; refine (HL.out _).mono ?_; rintro e1 w1 ⟨rfl, rfl⟩)
        | (go_at_call 44; refine (HPK.out).mono ?_; rintro e2 w2 ⟨rfl, hb2⟩; have R2 := Lib.hid (Rs.below (R0.out) hb2); have U2 := Lib.hid (upd_of b hb2); clear hb2 HPK)
        | (go_at_call 18; refine (HN.out _).mono ?_; rintro e4 w4 ⟨rfl, rfl⟩)
        | (go_at_call 35; refine (HP.out _).mono ?_; rintro e5 w5 ⟨rfl, rfl⟩)
        | (go_at_call 49; refine (HT1.out _ R2.out).mono ?_; rintro e3 w3 ⟨rfl, hr3, hu3⟩; have R3 := Lib.hid hr3; have U3 := Lib.hid (U2.out.trans hu3); clear hr3 hu3 R2)
        | (go_at_call 45; refine (HA.out _ R3.out).mono ?_; rintro e6 w6 ⟨rfl, rfl⟩)
        | (go_at_call 51; refine (HF.out _ R3.out).mono ?_; rintro e7 w7 ⟨rfl, hr7, hu7⟩; have R7 := Lib.hid hr7; have U7 := Lib.hid (U3.out.trans hu7); clear hr7 hu7)
        | (go_at_call 49; refine (HT2.out _ R7.out).mono ?_; rintro e8 w8 ⟨rfl, hr8, hu8⟩; have R8 := Lib.hid hr8; have U8 := Lib.hid (U7.out.trans hu8); clear hr8 hu8))
      go_ret
      exact ⟨rfl, R8.out, U8.out⟩
  · have e : namS v t q k = (⟨#[]⟩, .off k (q + t.size)) := by unfold namS; rw [if_neg hn]
    rw [e]
    have hsz : (t.extract k (k + (t.size - k))).size = t.size - k := by rw [ByteArray.size_extract]; omega
    have HPK := Lib.hid (oct.peek_m w b t k (t.size - k) (t.size - k) q 0 (ltrs v : Int) h.1 (by omega) hz.max (.inr (.inr ⟨by omega, rfl⟩)))
    have n1 : (((t.extract k (k + (t.size - k))).size : Int) == (ltrs v : Int)) = false := by rw [hsz]; exact (nb (by omega)).1
    have HT1 := Lib.hid (fun W h => take_rs hz (ltrs v) (.on k) W b h)
    rw [tak_n hn] at HT1
    change Calls _ _ _ _ fun e w' => e = .returned (.string ⟨#[]⟩) ∧ Rs w' b t q (.off k (q + t.size)) ∧ _
    change Hid (∀ (W : World), _ → Calls _ _ _ W fun e w' => e = .returned (.string ⟨#[]⟩) ∧ Rs w' b t q (.off k (q + t.size)) ∧ _) at HT1
    generalize t.extract k (k + (t.size - k)) = X at *
    generalize RS.off k (q + t.size) = S at *
    generalize RS.on k = S0 at *
    generalize ((ltrs v : Nat) : Int) = L at *
    clear e hsz hn h9 hk h hz h9t
    go_enter Try.func46, Try.ntmps46
    go_wp2_with (first
      | (go_at_call 16; refine (HL.out _).mono ?_; rintro e1 w1 ⟨rfl, rfl⟩)
      | (go_at_call 44; refine (HPK.out).mono ?_; rintro e2 w2 ⟨rfl, hb2⟩; have R2 := Lib.hid (Rs.below (R0.out) hb2); have U2 := Lib.hid (upd_of b hb2); clear hb2 HPK)
      | (go_at_call 49; refine (HT1.out _ R2.out).mono ?_; rintro e3 w3 ⟨rfl, hr3, hu3⟩; have R3 := Lib.hid hr3; have U3 := Lib.hid (U2.out.trans hu3); clear hr3 hu3 R2))
    go_ret
    exact ⟨rfl, R3.out, U3.out⟩
def sizS (v : Int) (t : ByteArray) (q : Int) (st : RS) : Nat × RS := if v = 2 then bigS t q 3 st else if v = 3 then bigS t q 4 st else safS t q st
theorem bigS_lt (t : ByteArray) (q : Int) (m : Nat) (st : RS) : (bigS t q m st).1 < 256 ^ m := by
  have h := takS_le t q m st
  have h2 := oct.num_lt_aux (takS t q m st).1.size (takS t q m st).1.data.toList (size_list _)
  exact Nat.lt_of_lt_of_le h2 (Nat.pow_le_pow_right (by omega) h)
set_option maxRecDepth 100000 in
theorem size_rs {t : ByteArray} {q : Int} (hz : Sz t q) (v : Int) (st : RS) (b : Nat) (w : World) (h : Rs w b t q st) : Calls Try.prog 47 #[.int .i64 v, .pointer (some ⟨b, 0, none⟩)] w fun e w' => e = .returned (.int .i64 ((sizS v t q st).1 : Int)) ∧ Rs w' b t q (sizS v t q st).2 ∧ Upd b w w' := by
  by_cases h2 : v = 2
  · subst h2
    have HB := Lib.hid (big_rs hz 3 (by omega) st w b h)
    have hl := bigS_lt t q 3 st
    have e : sizS 2 t q st = bigS t q 3 st := if_pos rfl
    rw [e]
    have e2 : IntKind.i64.wrap ((bigS t q 3 st).1 : Int) = ((bigS t q 3 st).1 : Int) := wrap64 (by omega) (by omega)
    clear hl e hz h
    generalize ((bigS t q 3 st).1 : Int) = X at *
    generalize (bigS t q 3 st).2 = S at *
    go_enter Try.func47, Try.ntmps47
    go_wp2_with (go_at_call 65; refine (HB.out).mono ?_; rintro e1 w1 ⟨rfl, hr, hu⟩)
    go_ret
    exact ⟨rfl, hr, hu⟩
  obtain ⟨q2, _⟩ := nb h2
  by_cases h3 : v = 3
  · subst h3
    have HB := Lib.hid (big_rs hz 4 (by omega) st w b h)
    have hl := bigS_lt t q 4 st
    have e : sizS 3 t q st = bigS t q 4 st := by unfold sizS; rw [if_neg (by omega), if_pos rfl]
    rw [e]
    have e2 : IntKind.i64.wrap ((bigS t q 4 st).1 : Int) = ((bigS t q 4 st).1 : Int) := wrap64 (by omega) (by omega)
    clear hl e hz h
    generalize ((bigS t q 4 st).1 : Int) = X at *
    generalize (bigS t q 4 st).2 = S at *
    go_enter Try.func47, Try.ntmps47
    go_wp2_with (go_at_call 65; refine (HB.out).mono ?_; rintro e1 w1 ⟨rfl, hr, hu⟩)
    go_ret
    exact ⟨rfl, hr, hu⟩
  obtain ⟨q3, _⟩ := nb h3
  have HB := Lib.hid (safe_rs hz st w b h)
  have e : sizS v t q st = safS t q st := by unfold sizS; rw [if_neg h2, if_neg h3]
  rw [e]
  clear e hz h
  generalize ((safS t q st).1 : Int) = X at *
  generalize (safS t q st).2 = S at *
  go_enter Try.func47, Try.ntmps47
  go_wp2_with (go_at_call 66; refine (HB.out).mono ?_; rintro e1 w1 ⟨rfl, hr, hu⟩)
  go_ret
  exact ⟨rfl, hr, hu⟩
theorem wrap8 {x : Int} (h0 : 0 ≤ x) (h1 : x < 256) : IntKind.u8.wrap x = x := by simp [IntKind.wrap, IntKind.bits, IntKind.signed]; omega
set_option maxRecDepth 100000 in
theorem flags2_rs (I B : ByteArray) (g a s0 m0 : Int) (t : ByteArray) (q : Int) (p b : Nat) (st : RS) (w : World) (hq : Bk w p [.string I, .int .u8 s0, .int .u8 m0, .int .u8 g, .string B, .int .i64 a]) (h : Rs w b t q st) : Calls Try.prog 48 #[.pointer (some ⟨p, 0, none⟩), .int .i64 2, .pointer (some ⟨b, 0, none⟩)] w fun e w' => e = .returned (.tuple #[]) ∧ w = w' := by
  go_enter Try.func48, Try.ntmps48
  go_wp2
  exact bodyPost_ret (v := .tuple #[]) (by simp [results, Try.results48, go_sem]) rfl ⟨rfl, rfl⟩
set_option maxRecDepth 100000 in
set_option maxHeartbeats 1000000 in
theorem flags_rs {t : ByteArray} {q : Int} (hz : Sz t q) (I B : ByteArray) (g a s0 m0 : Int) (v : Int) (hv : ¬ v = 2) (p b : Nat) (hpb : p ≠ b) (st : RS) (w : World) (hq : Bk w p [.string I, .int .u8 s0, .int .u8 m0, .int .u8 g, .string B, .int .i64 a]) (h : Rs w b t q st) : Calls Try.prog 48 #[.pointer (some ⟨p, 0, none⟩), .int .i64 v, .pointer (some ⟨b, 0, none⟩)] w fun e w' => e = .returned (.tuple #[]) ∧ Bk w' p [.string I, .int .u8 ((bigS t q 1 st).1 : Int), .int .u8 ((bigS t q 1 (bigS t q 1 st).2).1 : Int), .int .u8 g, .string B, .int .i64 a] ∧ Rs w' b t q (bigS t q 1 (bigS t q 1 st).2).2 ∧ Up2 p b w w' := by
  obtain ⟨q2, _⟩ := nb hv
  have hbp : b ≠ p := Ne.symm hpb
  have HB1 := Lib.hid (big_rs hz 1 (by omega) st w b h)
  have HB2 := Lib.hid (fun W h => big_rs hz 1 (by omega) (bigS t q 1 st).2 W b h)
  have hl1 := bigS_lt t q 1 st
  have hl2 := bigS_lt t q 1 (bigS t q 1 st).2
  have e1 : IntKind.u8.wrap ((bigS t q 1 st).1 : Int) = ((bigS t q 1 st).1 : Int) := wrap8 (by omega) (by omega)
  have e2 : IntKind.u8.wrap ((bigS t q 1 (bigS t q 1 st).2).1 : Int) = ((bigS t q 1 (bigS t q 1 st).2).1 : Int) := wrap8 (by omega) (by omega)
  have Q0 := Lib.hid hq
  clear hl1 hl2 hz h hv hq
  generalize ((bigS t q 1 (bigS t q 1 st).2).1 : Int) = Y at *
  generalize (bigS t q 1 (bigS t q 1 st).2).2 = S2 at *
  generalize ((bigS t q 1 st).1 : Int) = X at *
  generalize (bigS t q 1 st).2 = S1 at *
  go_enter Try.func48, Try.ntmps48
  go_wp2_with (first
    | (go_at_call 65; refine (HB1.out).mono ?_; rintro e1 w1 ⟨rfl, hr1, hu1⟩; have Q1' := upd_bk Q0.out hu1 hpb; have y1 := Q1'.c 1 _ rfl; have yf := Q1'.f; have Q1 : Hid (Bk (w1.setCell ⟨p, 1, none⟩ (.int .u8 X)) p [.string I, .int .u8 X, .int .u8 m0, .int .u8 g, .string B, .int .i64 a]) := Lib.hid (Q1'.set 1 (.int .u8 X) (by simp)); have R1 : Hid (Rs (w1.setCell ⟨p, 1, none⟩ (.int .u8 X)) b t q S1) := Lib.hid (hr1.upd ((Upd.refl p _).setCell 1 _) hbp); have U1 : Hid (Up2 p b w (w1.setCell ⟨p, 1, none⟩ (.int .u8 X))) := Lib.hid ((Up2.ofr p hu1).setp 1 _); clear Q1' hr1 hu1 HB1 Q0)
    | (go_at_call 65; refine (HB2.out _ R1.out).mono ?_; rintro e2 w2 ⟨rfl, hr2, hu2⟩; have Q2' := upd_bk Q1.out hu2 hpb; clear y1 yf; have y2 := Q2'.c 2 _ rfl; have yf := Q2'.f; have Q2 : Hid (Bk (w2.setCell ⟨p, 2, none⟩ (.int .u8 Y)) p [.string I, .int .u8 X, .int .u8 Y, .int .u8 g, .string B, .int .i64 a]) := Lib.hid (Q2'.set 2 (.int .u8 Y) (by simp)); have R2 : Hid (Rs (w2.setCell ⟨p, 2, none⟩ (.int .u8 Y)) b t q S2) := Lib.hid (hr2.upd ((Upd.refl p _).setCell 2 _) hbp); have U2 : Hid (Up2 p b w (w2.setCell ⟨p, 2, none⟩ (.int .u8 Y))) := Lib.hid ((U1.out.trans (Up2.ofr p hu2)).setp 2 _); clear Q2' hr2 hu2 HB2 Q1 R1 U1))
  go_end0
  exact ⟨rfl, Q2.out, R2.out, U2.out⟩
end Go.Proofs.Ytkhajafjieofhaa.fl
