/- Until of a reader of layer 1: contracts. -/
import Derived.Test.YtkhcmgnempjjcaaOct9
import Derived.Lib.Strings
namespace Go.Proofs.Ytkhcmgnempjjcaa
open Go.RowKit Go.PlainAid
set_option linter.unusedVariables false
/-- The text e stands in t at a. -/
def hits (t e : ByteArray) (a : Nat) : Bool := (t.extract a (a + e.size)).toList == e.toList
theorem lite_any (s p : ByteArray) (w : World) (hps : p.size ≤ s.size) (hs : s.size ≤ maxLen) :
    Calls Try.prog 53 #[.string s, .string p] w fun e' w' => e' = .returned (.bool ((s.extract 0 p.size).toList == p.toList)) ∧ w = w' := by
  unfold maxLen at hs
  go_enter Try.func53, Try.ntmps53
  go_wp2
  go_ret
  exact ⟨rfl, rfl⟩
theorem hits_tail (t e : ByteArray) (a : Nat) (h : a + e.size ≤ t.size) : (((t.extract a t.size).extract 0 e.size).toList == e.toList) = hits t e a := by
  unfold hits
  rw [Lib.extract_toList, Lib.extract_toList, Lib.extract_data, List.drop_zero, List.take_take]
  congr 2
  omega
theorem hp_at (t e : ByteArray) (a : Nat) (v : Bool) (w : World) (h : a + e.size ≤ t.size) (ht : t.size ≤ maxLen) (hv : hits t e a = v) :
    Calls Try.prog 49 #[.string (t.extract a t.size), .string e] w fun e' w' => e' = .returned (.bool v) ∧ w = w' := by
  have hsz : e.size ≤ (t.extract a t.size).size := by rw [ByteArray.size_extract]; omega
  have hm : (t.extract a t.size).size ≤ maxLen := by rw [ByteArray.size_extract]; omega
  have L : ∀ w, Calls Try.prog 53 #[.string (t.extract a t.size), .string e] w fun e' w' => e' = .returned (.bool v) ∧ w = w' := fun w => by
    rw [← hv, ← hits_tail t e a h]; exact lite_any _ _ w hsz hm
  clear hsz hm hv
  generalize t.extract a t.size = s at L
  have HL := Lib.hid L
  clear L
  go_enter Try.func49, Try.ntmps49
  go_wp2_with (go_at_call 53; refine (HL.out _).mono ?_; rintro e1 w1 ⟨rfl, rfl⟩)
  go_ret
  exact ⟨rfl, rfl⟩
/-- The places that are looked at. -/
def Pos (k st a : Nat) : Prop := ∃ i, a = k + i * st
theorem Pos.zero (k st : Nat) : Pos k st k := ⟨0, by simp⟩
theorem Pos.next {k st a : Nat} (h : Pos k st a) : Pos k st (a + st) := by
  obtain ⟨i, rfl⟩ := h
  exact ⟨i + 1, by rw [Nat.succ_mul]; omega⟩
theorem Pos.gap {k st a p : Nat} (h : Pos k st a) (hp : Pos k st p) (hap : a < p) : a + st ≤ p := by
  obtain ⟨i, rfl⟩ := h
  obtain ⟨j, rfl⟩ := hp
  have hij : i < j := by
    rcases Nat.lt_or_ge i j with h | h
    · exact h
    · have := Nat.mul_le_mul_right st h; omega
  have := Nat.mul_le_mul_right st hij
  rw [Nat.succ_mul] at this
  omega
structure Found (t e : ByteArray) (k st p : Nat) : Prop where
  pos : Pos k st p
  fits : p + e.size ≤ t.size
  hit : hits t e p = true
  first : ∀ a, Pos k st a → a < p → hits t e a = false
def Lacks (t e : ByteArray) (k st : Nat) : Prop := ∀ a, Pos k st a → a + e.size ≤ t.size → hits t e a = false
theorem until_ex (t e : ByteArray) (k st : Nat) (hst : 0 < st) : (∃ p, Found t e k st p) ∨ Lacks t e k st := by
  suffices H : ∀ n a, t.size + 1 - a ≤ n → Pos k st a → (∀ a', Pos k st a' → a' < a → hits t e a' = false) → (∃ p, Found t e k st p) ∨ Lacks t e k st by
    exact H _ k (Nat.le_refl _) (Pos.zero k st) (fun a' h1 h2 => by obtain ⟨i, rfl⟩ := h1; omega)
  intro n
  induction n with
  | zero =>
    intro a hn hp hf
    exact .inr fun a' h1 h2 => hf a' h1 (by omega)
  | succ n ih =>
    intro a hn hp hf
    by_cases h1 : a + e.size ≤ t.size
    · cases h2 : hits t e a with
      | true => exact .inl ⟨a, hp, h1, h2, hf⟩
      | false =>
        refine ih (a + st) (by omega) hp.next (fun a' h3 h4 => ?_)
        rcases Nat.lt_trichotomy a' a with h | h | h
        · exact hf a' h3 h
        · rw [h]; exact h2
        · have := hp.gap h3 h; omega
    · exact .inr fun a' h3 h4 => hf a' h3 (by omega)
theorem slice_ab (t : ByteArray) (k a : Nat) (h : k ≤ a) (h2 : a ≤ t.size) (wx : World) : (Instr.slice 9 (.string t) (some (.int .i64 (k : Int))) (some (.int .i64 (a : Int))) none).run Try.prog wx = .ok (.string (t.extract k a)) wx := by
  rw [run_slice_string _ _ _ _ _ _ _ Try.underlying9 (by omega) (by omega) (by omega)]
  rfl
set_option maxRecDepth 100000 in
theorem until_found (w : World) (b : Nat) (t e : ByteArray) (k st p : Nat) (bs at' : Int) (h : Rd w b t k bs 0 at') (hst : e.size < 1 ∧ st = 1 ∨ 1 ≤ e.size ∧ st = e.size) (hf : Found t e k st p) (ht : t.size ≤ 4000000000) :
    Calls Try.prog 35 #[.pointer (some ⟨b, 0, none⟩), .string e] w fun e' w' => e' = .returned (.string (t.extract k p)) ∧ Rd w' b t ((p + e.size : Nat) : Int) bs 0 at' ∧ Upd b w w' := by
  have ht' : t.size ≤ maxLen := by unfold maxLen; omega
  have H := Lib.hid h
  have hlt := h.lt
  have F := Lib.hid hf
  have hfit := hf.fits
  have hkp : k ≤ p := by obtain ⟨i, rfl⟩ := hf.pos; omega
  clear h hf
  rcases hst with ⟨he, rfl⟩ | ⟨he, rfl⟩
  · go_enter Try.func35, Try.ntmps35
    go_wp2_with (go_at_call 38; refine (stopped_some _ _ 0 at' H.out.lt H.out.c3 H.out.c4).mono ?_; rintro e1 w1 ⟨rfl, hb1⟩; have h1 := Lib.hid (H.out.below hb1 hlt); have c1 := h1.out.c1)
    have c0 := h1.out.c0
    have f1 := h1.out.f1
    go_loop [6] (fun i => ∃ a : Nat, i = .int .i64 a ∧ Pos k 1 a ∧ a ≤ p) (fun i => (t.size + 1) - (intOf i).toNat)
    case atStart => exact ⟨k, rfl, Pos.zero _ _, hkp⟩
    case round =>
      obtain ⟨a, rfl, hp, hap⟩ := hrel
      have hP := Lib.hid hp
      by_cases hlt2 : a < p
      · have hno := F.out.first a hp hlt2
        have hgap := hp.gap F.out.pos hlt2
        have hae : a + e.size ≤ t.size := by omega
        clear hp
        go_wp2_with (go_at_call 49; refine (hp_at _ _ _ false _ hae ht' hno).mono ?_; rintro e1 w2 ⟨rfl, rfl⟩)
        go_round
        case rel => exact ⟨a + 1, by go_num, hP.out.next, hgap⟩
        case measure => simp [intOf]; omega
      · obtain rfl : a = p := by omega
        have hyes := F.out.hit
        have hsl := slice_ab t k a hkp (by omega)
        clear hp hlt2 hap
        go_wp2_with (go_at_call 49; refine (hp_at _ _ _ true _ hfit ht' hyes).mono ?_; rintro e1 w2 ⟨rfl, rfl⟩)
        go_quiet (fail)
        have h2 := Lib.hid (h1.out.below (below_drewN (Below.refl _ _) nq) h1.out.lt)
        clear hsl
        go_wp2
        go_ret
        exact ⟨rfl, rd_read h2.out, (((Upd.of hb1 (Nat.le_refl _)).trans (Upd.of (below_drewN (Below.refl _ _) nq) (Nat.le_refl _)))).setCell _ _⟩
  · go_enter Try.func35, Try.ntmps35
    go_wp2_with (go_at_call 38; refine (stopped_some _ _ 0 at' H.out.lt H.out.c3 H.out.c4).mono ?_; rintro e1 w1 ⟨rfl, hb1⟩; have h1 := Lib.hid (H.out.below hb1 hlt); have c1 := h1.out.c1)
    have c0 := h1.out.c0
    have f1 := h1.out.f1
    go_loop [6] (fun i => ∃ a : Nat, i = .int .i64 a ∧ Pos k e.size a ∧ a ≤ p) (fun i => (t.size + 1) - (intOf i).toNat)
    case atStart => exact ⟨k, rfl, Pos.zero _ _, hkp⟩
    case round =>
      obtain ⟨a, rfl, hp, hap⟩ := hrel
      have hP := Lib.hid hp
      by_cases hlt2 : a < p
      · have hno := F.out.first a hp hlt2
        have hgap := hp.gap F.out.pos hlt2
        have hae : a + e.size ≤ t.size := by omega
        clear hp
        go_wp2_with (go_at_call 49; refine (hp_at _ _ _ false _ hae ht' hno).mono ?_; rintro e1 w2 ⟨rfl, rfl⟩)
        go_round
        case rel => exact ⟨a + e.size, by go_num, hP.out.next, hgap⟩
        case measure => simp [intOf]; omega
      · obtain rfl : a = p := by omega
        have hyes := F.out.hit
        have hsl := slice_ab t k a hkp (by omega)
        clear hp hlt2 hap
        go_wp2_with (go_at_call 49; refine (hp_at _ _ _ true _ hfit ht' hyes).mono ?_; rintro e1 w2 ⟨rfl, rfl⟩)
        go_quiet (fail)
        have h2 := Lib.hid (h1.out.below (below_drewN (Below.refl _ _) nq) h1.out.lt)
        clear hsl
        go_wp2
        go_ret
        exact ⟨rfl, rd_read h2.out, (((Upd.of hb1 (Nat.le_refl _)).trans (Upd.of (below_drewN (Below.refl _ _) nq) (Nat.le_refl _)))).setCell _ _⟩
set_option maxRecDepth 100000 in
theorem until_lacks (w : World) (b : Nat) (t e : ByteArray) (k st : Nat) (bs at' : Int) (h : Rd w b t k bs 0 at') (hst : e.size < 1 ∧ st = 1 ∨ 1 ≤ e.size ∧ st = e.size) (hf : Lacks t e k st) (hk : k ≤ t.size) (ht : t.size ≤ 4000000000) (hes : e.size ≤ 4000000000) (z0 : 0 ≤ bs) (z1 : bs ≤ 9223372036854775807) :
    Calls Try.prog 35 #[.pointer (some ⟨b, 0, none⟩), .string e] w fun e' w' => e' = .returned (.string ⟨#[]⟩) ∧ Rd w' b t k bs 1 (plc bs t.size) ∧ Upd b w w' := by
  have ht' : t.size ≤ maxLen := by unfold maxLen; omega
  have H := Lib.hid h
  have hlt := h.lt
  have F := Lib.hid hf
  clear h hf
  rcases hst with ⟨he, rfl⟩ | ⟨he, rfl⟩
  · go_enter Try.func35, Try.ntmps35
    go_wp2_with (go_at_call 38; refine (stopped_some _ _ 0 at' H.out.lt H.out.c3 H.out.c4).mono ?_; rintro e1 w1 ⟨rfl, hb1⟩; have h1 := Lib.hid (H.out.below hb1 hlt); have c1 := h1.out.c1)
    have c0 := h1.out.c0
    have f1 := h1.out.f1
    go_loop [6] (fun i => ∃ a : Nat, i = .int .i64 a ∧ Pos k 1 a ∧ a ≤ t.size + 1) (fun i => (t.size + 2) - (intOf i).toNat)
    case atStart => exact ⟨k, rfl, Pos.zero _ _, by omega⟩
    case round =>
      obtain ⟨a, rfl, hp, hap⟩ := hrel
      have hP := Lib.hid hp
      by_cases hae : a + e.size ≤ t.size
      · have hno := F.out a hp hae
        clear hp
        go_wp2_with (go_at_call 49; refine (hp_at _ _ _ false _ hae ht' hno).mono ?_; rintro e1 w2 ⟨rfl, rfl⟩)
        go_round
        case rel => exact ⟨a + 1, by go_num, hP.out.next, by omega⟩
        case measure => simp [intOf]; omega
      · have hae' : ¬ (a : Int) ≤ (t.size : Int) - (e.size : Int) := by omega
        clear hp
        go_wp2_with (go_at_call 48; refine (short_on _ _ _ _ _ _ h1.out ht' z0 z1).mono ?_; rintro e3 w3 ⟨rfl, hR, hU⟩)
        go_ret
        exact ⟨rfl, hR, (Upd.of hb1 (Nat.le_refl _)).trans hU⟩
  · go_enter Try.func35, Try.ntmps35
    go_wp2_with (go_at_call 38; refine (stopped_some _ _ 0 at' H.out.lt H.out.c3 H.out.c4).mono ?_; rintro e1 w1 ⟨rfl, hb1⟩; have h1 := Lib.hid (H.out.below hb1 hlt); have c1 := h1.out.c1)
    have c0 := h1.out.c0
    have f1 := h1.out.f1
    go_loop [6] (fun i => ∃ a : Nat, i = .int .i64 a ∧ Pos k e.size a ∧ a ≤ t.size + 1) (fun i => (t.size + 2) - (intOf i).toNat)
    case atStart => exact ⟨k, rfl, Pos.zero _ _, by omega⟩
    case round =>
      obtain ⟨a, rfl, hp, hap⟩ := hrel
      have hP := Lib.hid hp
      by_cases hae : a + e.size ≤ t.size
      · have hno := F.out a hp hae
        clear hp
        go_wp2_with (go_at_call 49; refine (hp_at _ _ _ false _ hae ht' hno).mono ?_; rintro e1 w2 ⟨rfl, rfl⟩)
        go_round
        case rel => exact ⟨a + e.size, by go_num, hP.out.next, by omega⟩
        case measure => simp [intOf]; omega
      · have hae' : ¬ (a : Int) ≤ (t.size : Int) - (e.size : Int) := by omega
        clear hp
        go_wp2_with (go_at_call 48; refine (short_on _ _ _ _ _ _ h1.out ht' z0 z1).mono ?_; rintro e3 w3 ⟨rfl, hR, hU⟩)
        go_ret
        exact ⟨rfl, hR, (Upd.of hb1 (Nat.le_refl _)).trans hU⟩
end Go.Proofs.Ytkhcmgnempjjcaa
