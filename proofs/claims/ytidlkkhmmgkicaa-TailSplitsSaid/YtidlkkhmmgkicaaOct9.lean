/- Want of a reader of layer 1: contracts. -/
import Derived.Test.YtidlkkhmmgkicaaOctA
import Derived.PlainAid
namespace Go.Proofs.Ytidlkkhmmgkicaa.oct
open Go.RowKit Go.PlainAid
set_option linter.unusedVariables false
theorem bt_extract (t : ByteArray) (k n i : Nat) (h : k + n ≤ t.size) (hi : i < n) : bt (t.extract k (k + n)) i = bt t (k + i) := by
  have hs : i < (t.extract k (k + n)).size := by rw [ByteArray.size_extract]; omega
  rw [← get_bt _ i hs, ← get_bt t (k + i) (by omega)]
  congr 2
  exact ByteArray.getElem_extract ..
/-- The text s stands at k for just m bytes. -/
structure Agree (t s : ByteArray) (k m : Nat) : Prop where
  ms : m ≤ s.size
  kt : k + m ≤ t.size
  same : ∀ i, i < m → bt t (k + i) = bt s i
  stop : m < s.size → k + m < t.size → bt t (k + m) ≠ bt s m
theorem agree_ex (t s : ByteArray) (k : Nat) (hk : k ≤ t.size) : ∃ m, Agree t s k m := by
  suffices H : ∀ n j, j + n = s.size → k + j ≤ t.size → (∀ i, i < j → bt t (k + i) = bt s i) → ∃ m, Agree t s k m by
    exact H s.size 0 (by omega) (by omega) (by intro i h; omega)
  intro n
  induction n with
  | zero => intro j hj hkj hsame; exact ⟨j, by omega, hkj, hsame, by intro h; omega⟩
  | succ n ih =>
    intro j hj hkj hsame
    by_cases h1 : k + j < t.size
    · by_cases h2 : bt t (k + j) = bt s j
      · refine ih (j + 1) (by omega) (by omega) (fun i hi => ?_)
        by_cases h3 : i = j
        · subst h3; exact h2
        · exact hsame i (by omega)
      · exact ⟨j, by omega, hkj, hsame, fun _ _ => h2⟩
    · exact ⟨j, by omega, hkj, hsame, fun _ h => absurd h h1⟩
set_option maxRecDepth 100000 in
theorem want_ok (w : World) (b : Nat) (t s : ByteArray) (k m : Nat) (bs at' : Int) (h : Rd w b t k bs 0 at') (hg : Agree t s k m) (hm : m = s.size) (ht : t.size ≤ maxLen) :
    Calls Try.prog 31 #[.pointer (some ⟨b, 0, none⟩), .string s] w fun e' w' => e' = .returned (.bool true) ∧ Rd w' b t ((k + m : Nat) : Int) bs 0 at' ∧ Upd b w w' := by
  have ht' := ht
  unfold maxLen at ht
  have H := Lib.hid h
  have hlt := h.lt
  have G := Lib.hid hg
  have hkt := hg.kt
  obtain ⟨l, hl⟩ : ∃ l, k + l = t.size := ⟨t.size - k, by omega⟩
  obtain ⟨nx, hnx⟩ : ∃ nx, nx = t.extract k (k + m) := ⟨_, rfl⟩
  have hns : nx.size = s.size := by rw [hnx, ByteArray.size_extract]; omega
  have hnb : ∀ i, i < s.size → bt nx i = bt s i := fun i hi => by rw [hnx, bt_extract t k m i hkt (by omega), hg.same i (by omega)]
  have hpk : ∀ w, Rd w b t k bs 0 at' → Calls Try.prog 49 #[.pointer (some ⟨b, 0, none⟩), .int .i64 s.size] w fun e' w' => e' = .returned (.string nx) ∧ Below w.heap.size w w' := fun w h => by
    rw [hnx]; exact peek_m w b t k m l bs at' s.size h hl ht' (Or.inr (Or.inl ⟨by omega, by omega⟩))
  have PK := Lib.hid hpk; have NB := Lib.hid hnb; have NS := Lib.hid hns
  have hns1 : ¬ nx.size < s.size := by omega
  subst hm
  clear h hg hl hnx hns hnb hpk
  go_enter Try.func31, Try.ntmps31
  go_wp2_with (first | (go_at_call 48; refine (stopped_some _ _ 0 at' H.out.lt H.out.c3 H.out.c4).mono ?_; rintro e1 w1 ⟨rfl, hb1⟩; have h1 := Lib.hid (H.out.below hb1 hlt)) | (go_at_call 49; refine (PK.out _ h1.out).mono ?_; rintro e2 w2 ⟨rfl, hb2⟩; have h2 := Lib.hid (h1.out.below hb2 h1.out.lt)))
  go_loopw [15] (fun i wr => ∃ j : Nat, j ≤ nx.size ∧ i = .int .i64 j ∧ Below w2.heap.size w2 wr) (fun i _ => nx.size - (intOf i).toNat)
  case atStart => exact ⟨0, Nat.zero_le _, rfl, Below.refl _ _⟩
  case round =>
    obtain ⟨j, hj, rfl, hbr⟩ := hrel
    by_cases hjl : j < nx.size
    · have hjs : j < s.size := by have := NS.out; omega
      have hc : (((nx[j]'hjl).toNat : Nat) : Int) = (((s[j]'hjs).toNat : Nat) : Int) := by rw [get_bt, get_bt]; exact NB.out j hjs
      have hc1 : ((((nx[j]'hjl).toNat : Nat) : Int) != (((s[j]'hjs).toNat : Nat) : Int)) = false := by rw [hc]; simp
      clear hc
      go_wp2_with fail
      go_quiet (fail)
      go_wp2
      go_roundw
      case rel => exact ⟨j + 1, by omega, by go_num, below_drewN hbr _⟩
      case measure => simp [intOf]; omega
    · have h3 := Lib.hid (h2.out.below hbr h2.out.lt)
      have c1 := h3.out.c1
      have f1 := h3.out.f1
      have hjj : ¬ j < nx.size := hjl
      clear hjl
      go_wp2
      go_ret
      exact ⟨rfl, rd_read h3.out, (((Upd.of hb1 (Nat.le_refl _)).trans (Upd.of hb2 (Nat.le_refl _))).trans (Upd.of hbr (Nat.le_refl _))).setCell _ _⟩
set_option maxRecDepth 100000 in
theorem want_end (w : World) (b : Nat) (t s : ByteArray) (k m : Nat) (bs at' : Int) (h : Rd w b t k bs 0 at') (hg : Agree t s k m) (hm : m < s.size) (hm' : k + m = t.size) (ht : t.size ≤ maxLen) (hss : s.size ≤ maxLen) (z0 : 0 ≤ bs) (z1 : bs ≤ 9223372036854775807) :
    Calls Try.prog 31 #[.pointer (some ⟨b, 0, none⟩), .string s] w fun e' w' => e' = .returned (.bool false) ∧ Rd w' b t k bs 1 (plc bs (k + m : Nat)) ∧ Upd b w w' := by
  have ht' := ht
  unfold maxLen at ht hss
  have H := Lib.hid h
  have hlt := h.lt
  have G := Lib.hid hg
  have hkt := hg.kt
  obtain ⟨l, hl⟩ : ∃ l, k + l = t.size := ⟨t.size - k, by omega⟩
  obtain ⟨nx, hnx⟩ : ∃ nx, nx = t.extract k (k + m) := ⟨_, rfl⟩
  have hns : nx.size = m := by rw [hnx, ByteArray.size_extract]; omega
  have hnb : ∀ i, i < m → bt nx i = bt s i := fun i hi => by rw [hnx, bt_extract t k m i hkt (by omega), hg.same i (by omega)]
  have hpk : ∀ w, Rd w b t k bs 0 at' → Calls Try.prog 49 #[.pointer (some ⟨b, 0, none⟩), .int .i64 s.size] w fun e' w' => e' = .returned (.string nx) ∧ Below w.heap.size w w' := fun w h => by
    rw [hnx]; exact peek_m w b t k m l bs at' s.size h hl ht' (by omega)
  have PK := Lib.hid hpk; have NB := Lib.hid hnb; have NS := Lib.hid hns
  have hns1 : nx.size < s.size := by omega
  have HE := Lib.hid hm'
  clear hm'
  clear h hg hl hnx hns hnb hpk
  go_enter Try.func31, Try.ntmps31
  go_wp2_with (first | (go_at_call 48; refine (stopped_some _ _ 0 at' H.out.lt H.out.c3 H.out.c4).mono ?_; rintro e1 w1 ⟨rfl, hb1⟩; have h1 := Lib.hid (H.out.below hb1 hlt)) | (go_at_call 49; refine (PK.out _ h1.out).mono ?_; rintro e2 w2 ⟨rfl, hb2⟩; have h2 := Lib.hid (h1.out.below hb2 h1.out.lt)))
  go_loopw [15] (fun i wr => ∃ j : Nat, j ≤ nx.size ∧ i = .int .i64 j ∧ Below w2.heap.size w2 wr) (fun i _ => nx.size - (intOf i).toNat)
  case atStart => exact ⟨0, Nat.zero_le _, rfl, Below.refl _ _⟩
  case round =>
    obtain ⟨j, hj, rfl, hbr⟩ := hrel
    by_cases hjl : j < nx.size
    · have hjs : j < s.size := by have := NS.out; omega
      have hjm : j < m := by have := NS.out; omega
      have hc : (((nx[j]'hjl).toNat : Nat) : Int) = (((s[j]'hjs).toNat : Nat) : Int) := by rw [get_bt, get_bt]; exact NB.out j hjm
      have hc1 : ((((nx[j]'hjl).toNat : Nat) : Int) != (((s[j]'hjs).toNat : Nat) : Int)) = false := by rw [hc]; simp
      clear hc
      go_wp2_with fail
      go_quiet (fail)
      go_wp2
      go_roundw
      case rel => exact ⟨j + 1, by omega, by go_num, below_drewN hbr _⟩
      case measure => simp [intOf]; omega
    · have h3 := Lib.hid (h2.out.below hbr h2.out.lt)
      go_wp2_with (go_at_call 52; refine (short_on _ _ _ _ _ _ h3.out ht' z0 z1).mono ?_; rintro e3 w3 ⟨rfl, hR, hU⟩)
      go_ret
      rw [HE.out]
      exact ⟨rfl, hR, (((Upd.of hb1 (Nat.le_refl _)).trans (Upd.of hb2 (Nat.le_refl _))).trans (Upd.of hbr (Nat.le_refl _))).trans hU⟩
set_option maxRecDepth 100000 in
theorem want_miss (w : World) (b : Nat) (t s : ByteArray) (k m : Nat) (bs at' : Int) (h : Rd w b t k bs 0 at') (hg : Agree t s k m) (hm : m < s.size) (hm' : k + m < t.size) (ht : t.size ≤ maxLen) (hss : s.size ≤ maxLen) (z0 : 0 ≤ bs) (z1 : bs ≤ 9223372036854775807) :
    Calls Try.prog 31 #[.pointer (some ⟨b, 0, none⟩), .string s] w fun e' w' => e' = .returned (.bool false) ∧ Rd w' b t k bs 1 (plc bs (k + m : Nat)) ∧ Upd b w w' := by
  have ht' := ht
  unfold maxLen at ht hss
  have H := Lib.hid h
  have hlt := h.lt
  have G := Lib.hid hg
  have hkt := hg.kt
  obtain ⟨l, hl⟩ : ∃ l, k + l = t.size := ⟨t.size - k, by omega⟩
  obtain ⟨q, hq⟩ : ∃ q, q = min s.size l := ⟨_, rfl⟩
  obtain ⟨nx, hnx⟩ : ∃ nx, nx = t.extract k (k + q) := ⟨_, rfl⟩
  have hmq : m < q := by omega
  have hns : nx.size = q := by rw [hnx, ByteArray.size_extract]; omega
  have hne : bt nx m ≠ bt s m := by rw [hnx, bt_extract t k q m (by omega) hmq]; exact hg.stop hm hm'
  have hnb : ∀ i, i < m → bt nx i = bt s i := fun i hi => by rw [hnx, bt_extract t k q i (by omega) (by omega), hg.same i (by omega)]
  have hpk : ∀ w, Rd w b t k bs 0 at' → Calls Try.prog 49 #[.pointer (some ⟨b, 0, none⟩), .int .i64 s.size] w fun e' w' => e' = .returned (.string nx) ∧ Below w.heap.size w w' := fun w h => by
    rw [hnx]; exact peek_m w b t k q l bs at' s.size h hl ht' (by omega)
  have PK := Lib.hid hpk; have NB := Lib.hid hnb; have NS := Lib.hid hns
  have hmn : m < nx.size := by omega
  have HNE := Lib.hid hne
  clear hne hq
  clear h hg hl hnx hns hnb hpk
  go_enter Try.func31, Try.ntmps31
  go_wp2_with (first | (go_at_call 48; refine (stopped_some _ _ 0 at' H.out.lt H.out.c3 H.out.c4).mono ?_; rintro e1 w1 ⟨rfl, hb1⟩; have h1 := Lib.hid (H.out.below hb1 hlt)) | (go_at_call 49; refine (PK.out _ h1.out).mono ?_; rintro e2 w2 ⟨rfl, hb2⟩; have h2 := Lib.hid (h1.out.below hb2 h1.out.lt)))
  go_loopw [15] (fun i wr => ∃ j : Nat, j ≤ m ∧ i = .int .i64 j ∧ Below w2.heap.size w2 wr) (fun i _ => nx.size - (intOf i).toNat)
  case atStart => exact ⟨0, Nat.zero_le _, rfl, Below.refl _ _⟩
  case round =>
    obtain ⟨j, hj, rfl, hbr⟩ := hrel
    have hjl : j < nx.size := by omega
    have hjs : j < s.size := by omega
    by_cases hjm : j < m
    · have hc : (((nx[j]'hjl).toNat : Nat) : Int) = (((s[j]'hjs).toNat : Nat) : Int) := by rw [get_bt, get_bt]; exact NB.out j hjm
      have hc1 : ((((nx[j]'hjl).toNat : Nat) : Int) != (((s[j]'hjs).toNat : Nat) : Int)) = false := by rw [hc]; simp
      clear hc
      go_wp2_with fail
      go_quiet (fail)
      go_wp2
      go_roundw
      case rel => exact ⟨j + 1, by omega, by go_num, below_drewN hbr _⟩
      case measure => simp [intOf]; omega
    · obtain rfl : j = m := by omega
      have hc : (((nx[j]'hjl).toNat : Nat) : Int) ≠ (((s[j]'hjs).toNat : Nat) : Int) := by rw [get_bt, get_bt]; exact HNE.out
      have hc1 : ((((nx[j]'hjl).toNat : Nat) : Int) != (((s[j]'hjs).toNat : Nat) : Int)) = true := by simpa using hc
      have h3 := Lib.hid (h2.out.below hbr h2.out.lt)
      have c1 := h3.out.c1
      clear hc hjm
      go_wp2_with fail
      go_quiet (fail)
      have h4 : Hid (Rd (wr.drewN nq) b t (↑k) bs 0 at') := Lib.hid (h3.out.below (below_drewN (Below.refl _ wr) nq) h3.out.lt)
      go_wp2_with (first | (go_at_call 51; refine (place_on _ _ _ _ h4.out.lt h4.out.c2 z0 z1 (by omega) (by omega)).mono ?_; rintro e1 w3 ⟨rfl, rfl⟩) | (go_at_call 50; refine (fail_on _ _ _ _ _ _ _ _ h4.out rfl).mono ?_; rintro e2 w3 ⟨rfl, hR, hU⟩))
      go_ret
      exact ⟨rfl, hR, (((Upd.of hb1 (Nat.le_refl _)).trans (Upd.of hb2 (Nat.le_refl _))).trans (Upd.of (below_drewN hbr nq) (Nat.le_refl _))).trans hU⟩
end Go.Proofs.Ytidlkkhmmgkicaa.oct
