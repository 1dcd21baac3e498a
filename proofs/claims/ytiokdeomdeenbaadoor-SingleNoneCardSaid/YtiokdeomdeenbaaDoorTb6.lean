/- The document's pairs of pieces (made of the laws of layer 4): a contract. -/
import Derived.Test.YtiokdeomdeenbaaDoorTb5
namespace Go.Proofs.YtiokdeomdeenbaaDoor.tb
open Go.RowKit Go.Lib
set_option linter.unusedVariables false
/-- The pairs of pieces, or the first that is refused. -/
def mk : Nat → List (Int × Int) → List Pce → Option (List (Int × Int)) × Int
  | _, all, [] => (some all, -1)
  | i, all, p :: ps => match piece p.f p.t p.c p.s with
    | none => (none, (i : Int))
    | some more => match join all more with
      | none => (none, (i : Int))
      | some r => mk (i + 1) r ps
def made (l : List Pce) : Option (List (Int × Int)) × Int := mk 0 [] l
theorem piece_len {p : Pce} {more : List (Int × Int)} (h : piece p.f p.t p.c p.s = some more) (hf : fine p = true) : more.length ≤ 300 := by
  unfold fine at hf
  simp at hf
  unfold piece at h
  split at h
  · split at h
    · cases h
    · split at h
      · cases h
      · cases h; rw [sqp_len]; omega
  · split at h
    · cases h
    · cases h
      rw [lsp_len, pt.zsOf_len]
      have := pt.sc_len p.s p.s.size 0
      unfold pt.scan
      omega
theorem join_len {l more r : List (Int × Int)} (h : join l more = some r) : r = puts l more ∧ r.length = l.length + more.length := by
  unfold join at h
  split at h
  · cases h; exact ⟨rfl, puts_len l more⟩
  · cases h
/-- What made answers. -/
def MadeP (w : World) (l : List Pce) (e : Ending) (w' : World) : Prop :=
  ((made l).1 = none ∧ e = .returned (.tuple #[.slice none 0 0, .int .i64 (made l).2]) ∧ Below w.heap.size w w') ∨
  ∃ r A c, (made l).1 = some r ∧ (made l).2 = -1 ∧ r.length ≤ 3600 ∧ e = .returned (.tuple #[.slice A r.length c, .int .i64 (-1)]) ∧ RowP w' A r.length c r ∧ Below w.heap.size w w'
theorem ret_bad {a b : Int} (h : a = b) : Ending.returned (.tuple #[.slice none 0 0, .int .i64 a]) = .returned (.tuple #[.slice none 0 0, .int .i64 b]) := by rw [h]
set_option maxRecDepth 100000 in
set_option maxHeartbeats 2000000 in
theorem made_any (A : Option Addr) (n c : Nat) (l : List Pce) (w : World) (h : RowC w A n c l) (hl : light l = true) :
    Calls Tryd.prog 15 #[.slice A n c] w (MadeP w l) := by
  have hn := h.1
  unfold light at hl
  simp at hl
  obtain ⟨hl1, hl2⟩ := hl
  have HLF := Lib.hid hl2
  have H := Lib.hid h; have HN := Lib.hid hn
  have hn12 : n ≤ 12 := by omega
  clear h hn hl1 hl2
  go_enter Tryd.func15, Tryd.ntmps15
  go_wp2_with fail
  go_loopw [4, 11] (fun v i wr => ∃ (j m : Nat) (B : Option Addr) (d : Nat) (all : List (Int × Int)), j ≤ n ∧ i = .int .i64 j ∧ v = .slice B m d ∧ m ≤ 300 * j ∧ RowP wr B m d all ∧ mk j all (l.drop j) = made l ∧ Below w.heap.size w wr) (fun _ i _ => n - (RowKit.intOf i).toNat)
  case atStart => exact ⟨0, 0, none, 0, [], Nat.zero_le _, rfl, rfl, Nat.le_refl _, .inl ⟨rfl, rfl, rfl, rfl⟩, rfl, Below.refl _ _⟩
  case round =>
    obtain ⟨j, m, B, d, all, hj, rfl, rfl, hm, hrow, hmk, hB⟩ := hrel
    have HRW := Lib.hid hrow; have HMK := Lib.hid hmk; have HB := Lib.hid hB
    clear hrow hmk hB
    by_cases hlt : j < n
    · obtain ⟨a, rfl, a1, a2, hc, hok, htk, hdr⟩ := (H.out.below HB.out).at j hlt
      unfold maxLen at a2
      have HDR := Lib.hid hdr
      have hfn : fine (l.getD j p0) = true := HLF.out _ (by simp [List.getD, List.getElem?_eq_getElem (show j < l.length by have := HN.out; omega)])
      clear htk hdr
      generalize l.getD j p0 = p at *
      obtain ⟨k0, k1, k2, k3⟩ := hc
      obtain ⟨o1, o2, o3, o4, o5, o6, o7⟩ := hok
      have hfn2 : p.c ≤ 100 ∧ p.s.size ≤ 300 := by unfold fine at hfn; simpa using hfn
      have HPC := Lib.hid (fun w2 => piece_any p.f p.t p.c p.s w2 o1 o2 o5 hfn2.1 o3 o4 hfn2.2)
      have hpl := fun more (h : piece p.f p.t p.c p.s = some more) => piece_len h hfn
      have hmk2 : made l = (match piece p.f p.t p.c p.s with | none => (none, (j : Int)) | some more => match join all more with | none => (none, (j : Int)) | some r => mk (j + 1) r (l.drop (j + 1))) := by rw [← HMK.out, HDR.out]; rfl
      have hal := HRW.out.len
      cases hp : piece p.f p.t p.c p.s with
      | none =>
        rw [hp] at hmk2 HPC
        simp only at hmk2
        have HM2 := Lib.hid hmk2
        have HPC2 : Hid (∀ w2, Calls Tryd.prog 40 #[.int .i64 p.f, .int .i32 p.t, .int .i64 p.c, .string p.s] w2 fun e w' => e = .returned (.tuple #[.slice none 0 0, .bool false]) ∧ Below w2.heap.size w2 w') := Lib.hid (fun w2 => (HPC.out w2).mono fun e w' h => by
          rcases h with ⟨_, h1, h2⟩ | ⟨_, _, _, h0, _⟩
          · exact ⟨h1, h2⟩
          · cases h0)
        clear hmk2 HPC hpl hp hfn hal
        generalize p.c = C at *
        generalize p.s = S at *
        generalize p.f = F at *
        generalize p.t = T at *
        go_wp2_with (go_at_call 40; refine (HPC2.out _).mono ?_; rintro e1 w1 ⟨rfl, hb1⟩; have B1 := Lib.hid ((HB.out.alloc HB.out.size _).trans (hb1.mono (by have := HB.out.size; simp; omega))); clear hb1)
        go_ret2
        exact .inl ⟨by rw [HM2.out], ret_bad (by rw [HM2.out]), B1.out⟩
      | some more =>
        rw [hp] at hmk2 HPC
        simp only at hmk2
        have hml := hpl more hp
        have HPC2 : Hid (∀ w2, Calls Tryd.prog 40 #[.int .i64 p.f, .int .i32 p.t, .int .i64 p.c, .string p.s] w2 fun e w' => ∃ A c, e = .returned (.tuple #[.slice A more.length c, .bool true]) ∧ RowP w' A more.length c more ∧ Below w2.heap.size w2 w') := Lib.hid (fun w2 => (HPC.out w2).mono fun e w' h => by
          rcases h with ⟨h0, _⟩ | ⟨l, A, c, h0, h1, h2, h3⟩
          · cases h0
          · cases h0; exact ⟨A, c, h1, h2, h3⟩)
        have HJN := Lib.hid (fun w2 A2 c2 h1 h2 => refJoin_any B A2 m d more.length c2 all more w2 h1 h2 (by omega))
        cases hjn : join all more with
        | none =>
          rw [hjn] at hmk2
          simp only at hmk2
          have HM2 := Lib.hid hmk2
          have HJN2 : Hid (∀ w2 A2 c2, RowP w2 B m d all → RowP w2 A2 more.length c2 more → Calls Tryd.prog 41 #[.slice B m d, .slice A2 more.length c2] w2 fun e w' => e = .returned (.tuple #[.slice none 0 0, .bool false]) ∧ Below w2.heap.size w2 w') := Lib.hid (fun w2 A2 c2 h1 h2 => (HJN.out w2 A2 c2 h1 h2).mono fun e w' h => by
            rcases h with ⟨_, h1, h2⟩ | ⟨_, _, h0, _⟩
            · exact ⟨h1, h2⟩
            · rw [hjn] at h0; cases h0)
          clear hmk2 HPC hpl hp hfn hal HJN hjn hml
          generalize p.c = C at *
          generalize p.s = S at *
          generalize p.f = F at *
          generalize p.t = T at *
          generalize more.length = M at *
          go_wp2_with (first | (go_at_call 40; refine (HPC2.out _).mono ?_; rintro e1 w1 ⟨A1, c1, rfl, hr1, hb1⟩; have HR1 := Lib.hid hr1; have B1 := Lib.hid ((HB.out.alloc HB.out.size _).trans (hb1.mono (by have := HB.out.size; simp; omega))); have HA1 := Lib.hid ((HRW.out.below ((Below.refl _ _).alloc (Nat.le_refl _) _)).below hb1); clear hb1 hr1) | (go_at_call 41; refine (HJN2.out _ _ _ HA1.out HR1.out).mono ?_; rintro e2 w2 ⟨rfl, hb2⟩))
          go_ret2
          exact .inl ⟨by rw [HM2.out], ret_bad (by rw [HM2.out]), B1.out.trans (hb2.mono B1.out.size)⟩
        | some r =>
          rw [hjn] at hmk2
          simp only at hmk2
          have HM2 := Lib.hid hmk2
          have hjl := join_len hjn
          have HJN2 : Hid (∀ w2 A2 c2, RowP w2 B m d all → RowP w2 A2 more.length c2 more → Calls Tryd.prog 41 #[.slice B m d, .slice A2 more.length c2] w2 fun e w' => ∃ A c, e = .returned (.tuple #[.slice A r.length c, .bool true]) ∧ RowP w' A r.length c r ∧ Below w2.heap.size w2 w') := Lib.hid (fun w2 A2 c2 h1 h2 => (HJN.out w2 A2 c2 h1 h2).mono fun e w' h => by
            rcases h with ⟨h0, _⟩ | ⟨A, c, h0, h1, h2, h3⟩
            · rw [hjn] at h0; cases h0
            · rw [← hjl.1] at h1 h2; exact ⟨A, c, h1, h2, h3⟩)
          have hrl : r.length ≤ 300 * (j + 1) := by rw [hjl.2]; omega
          clear hmk2 HPC hpl hp hfn hal HJN hjn hml hjl
          generalize p.c = C at *
          generalize p.s = S at *
          generalize p.f = F at *
          generalize p.t = T at *
          generalize more.length = M at *
          obtain ⟨Q, hQ⟩ : ∃ Q, Q = r.length := ⟨_, rfl⟩
          rw [← hQ] at HJN2 hrl
          clear hQ
          go_wp2_with (first | (go_at_call 40; refine (HPC2.out _).mono ?_; rintro e1 w1 ⟨A1, c1, rfl, hr1, hb1⟩; have HR1 := Lib.hid hr1; have B1 := Lib.hid ((HB.out.alloc HB.out.size _).trans (hb1.mono (by have := HB.out.size; simp; omega))); have HA1 := Lib.hid ((HRW.out.below ((Below.refl _ _).alloc (Nat.le_refl _) _)).below hb1); clear hb1 hr1) | (go_at_call 41; refine (HJN2.out _ _ _ HA1.out HR1.out).mono ?_; rintro e2 w2 ⟨A2, c2, rfl, hr2, hb2⟩; have HR2 := Lib.hid hr2; have HB2 := Lib.hid (B1.out.trans (hb2.mono B1.out.size)); clear hr2 hb2))
          go_roundw
          case rel => exact ⟨j + 1, Q, A2, c2, r, by omega, by go_num, rfl, hrl, HR2.out, HM2.out.symm, HB2.out⟩
          case measure => simp [RowKit.intOf]; omega
    · obtain rfl : j = n := by omega
      have hmk2 : made l = (some all, -1) := by
        rw [← HMK.out, List.drop_of_length_le (by have := HN.out; omega)]; rfl
      have HM2 := Lib.hid hmk2
      have hlen := Lib.hid HRW.out.len
      clear hmk2 hlt
      go_wp2_with fail
      go_ret2
      exact .inr ⟨all, B, d, by rw [HM2.out], by rw [HM2.out], by rw [hlen.out]; omega, by rw [hlen.out]; rfl, by rw [hlen.out]; exact HRW.out, HB.out⟩
end Go.Proofs.YtiokdeomdeenbaaDoor.tb
