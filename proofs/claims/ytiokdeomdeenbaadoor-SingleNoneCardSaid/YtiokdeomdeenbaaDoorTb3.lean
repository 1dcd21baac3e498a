/- Rows of pairs of layer 4; the document's answer: Join, Over: contracts. -/
import Derived.Test.YtiokdeomdeenbaaDoorTb2
namespace Go.Proofs.YtiokdeomdeenbaaDoor.tb
open Go.RowKit Go.Lib
set_option linter.unusedVariables false
theorem take_succ (l : List (Int × Int)) (j : Nat) (h : j < l.length) : l.take (j + 1) = l.take j ++ [l.getD j (0, 0)] := by
  rw [List.take_add_one, List.getElem?_eq_getElem h]; simp [List.getD, List.getElem?_eq_getElem h]
theorem puts_snoc (l m : List (Int × Int)) (q : Int × Int) : puts l (m ++ [q]) = put (puts l m) q := by simp [puts]
theorem puts_len (l m : List (Int × Int)) : (puts l m).length = l.length + m.length := by
  unfold puts
  induction m generalizing l with
  | nil => simp
  | cons q m ih => rw [List.foldl_cons, ih, put_len, List.length_cons]; omega
/-- What Join answers. -/
def JoinP (w : World) (l more : List (Int × Int)) (e : Ending) (w' : World) : Prop :=
  (join l more = none ∧ e = .returned (.tuple #[.slice none 0 0, .bool false]) ∧ Below w.heap.size w w') ∨
  ∃ A c, join l more = some (puts l more) ∧ e = .returned (.tuple #[.slice A (puts l more).length c, .bool true]) ∧ RowP w' A (puts l more).length c (puts l more) ∧ Below w.heap.size w w'
theorem find_lo (l : List (Int × Int)) (c : Int) : -1 ≤ find l c ∧ find l c < (l.length : Int) := by
  rcases find_cases l c with ⟨_, h2⟩ | ⟨k, p, _, h2, h3⟩
  · rw [h2]; omega
  · rw [h2]
    have := (List.getElem?_eq_some_iff.1 h3).1
    omega
set_option maxRecDepth 100000 in
set_option maxHeartbeats 2000000 in
theorem refJoin_any (A A2 : Option Addr) (n c n2 c2 : Nat) (l more : List (Int × Int)) (w : World) (h : RowP w A n c l) (h2 : RowP w A2 n2 c2 more) (hn : n + n2 ≤ 90000) :
    Calls Tryd.prog 41 #[.slice A n c, .slice A2 n2 c2] w (JoinP w l more) := by
  have H := Lib.hid h; have H2 := Lib.hid h2; have HL := Lib.hid h.len; have HL2 := Lib.hid h2.len
  clear h h2
  go_enter Tryd.func41, Tryd.ntmps41
  go_wp2_with fail
  go_loop [6] (fun i => ∃ j : Nat, j ≤ n2 ∧ i = .int .i64 j ∧ (more.take j).all (fun q => decide (find l q.1 < 0)) = true) (fun i => n2 - (RowKit.intOf i).toNat)
  case atStart => exact ⟨0, Nat.zero_le _, rfl, by simp⟩
  case round =>
    obtain ⟨j, hj, rfl, hall⟩ := hrel
    have HAL := Lib.hid hall
    clear hall
    by_cases hlt : j < n2
    · obtain ⟨a, rfl, a1, a2, k0, k1⟩ := H2.out.at j hlt
      unfold maxLen at a2
      have hjl : j < more.length := by have := HL2.out; omega
      have htk := Lib.hid (take_succ more j hjl)
      have hmem : Hid (more.getD j (0, 0) ∈ more) := Lib.hid (by simp [List.getD, List.getElem?_eq_getElem hjl])
      generalize more.getD j (0, 0) = q at *
      obtain ⟨x, y⟩ := q
      simp only at k0 k1
      have hfd := fun w2 h2 => refFind_any A n c l x w2 h2 (by omega)
      have hlo := find_lo l x
      by_cases hf : find l x < 0
      · have hst : Hid ((more.take (j + 1)).all (fun q => decide (find l q.1 < 0)) = true) := Lib.hid (by rw [htk.out, List.all_append, HAL.out]; simp [hf])
        generalize find l x = F at *
        have HF := Lib.hid hfd
        clear hfd
        go_wp2_with (go_at_call 20; refine (HF.out _ H.out).mono ?_; rintro e1 w1 ⟨rfl, rfl⟩)
        go_round
        case rel => exact ⟨j + 1, by omega, by go_num, hst.out⟩
        case measure => simp [RowKit.intOf]; omega
      · have hno : Hid (join l more = none) := Lib.hid (by
          unfold join
          rw [if_neg]
          intro h
          have := List.all_eq_true.1 h _ hmem.out
          simp at this
          omega)
        have hf' : 0 ≤ find l x := by omega
        generalize find l x = F at *
        have HF := Lib.hid hfd
        clear hfd
        go_wp2_with (go_at_call 20; refine (HF.out _ H.out).mono ?_; rintro e1 w1 ⟨rfl, rfl⟩)
        go_ret2
        exact .inl ⟨hno.out, rfl, Below.refl _ _⟩
    · obtain rfl : j = n2 := by omega
      have htk : more.take j = more := by rw [← HL2.out]; exact List.take_length
      have hyes : Hid (join l more = some (puts l more)) := Lib.hid (by
        have := HAL.out
        rw [htk] at this
        unfold join
        rw [if_pos this])
      clear hlt htk
      go_wp2_with fail
      go_loopw [0, 7] (fun s i wr => ∃ (k m : Nat) (B : Option Addr) (d : Nat), k ≤ j ∧ i = .int .i64 k ∧ s = .slice B m d ∧ m = n + k ∧ RowP wr B m d (puts l (more.take k)) ∧ Below w.heap.size w wr) (fun _ i _ => j - (RowKit.intOf i).toNat)
      case atStart => exact ⟨0, n, A, c, Nat.zero_le _, rfl, rfl, rfl, by simpa [puts] using H.out, Below.refl _ _⟩
      case round =>
        obtain ⟨k, m, B, d, hk, rfl, rfl, hm, hrow, hB⟩ := hrel
        have HRW := Lib.hid hrow; have HB := Lib.hid hB; have HM := Lib.hid hm
        have hm9 : m ≤ 90000 := by omega
        clear hrow hB hm
        by_cases hlt : k < j
        · obtain ⟨a, rfl, a1, a2, k0, k1⟩ := (H2.out.below HB.out).at k hlt
          unfold maxLen at a2
          have hkl : k < more.length := by have := HL2.out; omega
          have htk := Lib.hid (take_succ more k hkl)
          generalize more.getD k (0, 0) = q at *
          obtain ⟨x, y⟩ := q
          simp only at k0 k1
          have k2 : wr.cell? ⟨(a.add (k * 2)).block, (a.add (k * 2)).off + 1, none⟩ = some (.int .i32 y) := by rw [← k1]; rfl
          have HP := Lib.hid (fun w2 h2 => refPut_any B m d (puts l (more.take k)) x y w2 h2 (by omega))
          go_wp2_with (go_at_call 48; refine (HP.out _ HRW.out).mono ?_; rintro e1 w1 ⟨v1, rfl, ho1, hb1⟩; obtain ⟨B1, d1, rfl, hr1⟩ := rowP_of ho1; rw [put_len] at hr1; have HR1 := Lib.hid hr1; have HB1 := Lib.hid (HB.out.trans (hb1.mono HB.out.size)); have hl1 := Lib.hid HRW.out.len; rw [put_len]; clear ho1 hb1 hr1)
          go_roundw
          case rel => exact ⟨k + 1, _, B1, d1, by omega, by go_num, rfl, by have := hl1.out; have := HM.out; omega, by rw [htk.out, puts_snoc]; exact HR1.out, HB1.out⟩
          case measure => simp [RowKit.intOf]; omega
        · obtain rfl : k = j := by omega
          have htk : more.take k = more := by rw [← HL2.out]; exact List.take_length
          rw [htk] at HRW
          have hlen := Lib.hid HRW.out.len
          clear htk hlt
          go_wp2_with fail
          go_ret2
          exact .inr ⟨B, d, hyes.out, by rw [hlen.out]; rfl, by rw [hlen.out]; exact HRW.out, HB.out⟩
/-- A slice that has these pairs. -/
def RowR (w : World) (l : List (Int × Int)) (e : Ending) (w' : World) : Prop := ∃ A c, e = .returned (.slice A l.length c) ∧ RowP w' A l.length c l ∧ Below w.heap.size w w'
theorem over_snoc (l m out : List (Int × Int)) (q : Int × Int) : (m ++ [q]).foldl (fun out q => if find l q.1 < 0 then put out q else out) out = if find l q.1 < 0 then put (m.foldl (fun out q => if find l q.1 < 0 then put out q else out) out) q else m.foldl (fun out q => if find l q.1 < 0 then put out q else out) out := by simp
def overs (l m : List (Int × Int)) : List (Int × Int) := m.foldl (fun out q => if find l q.1 < 0 then put out q else out) l
theorem overs_snoc (l m : List (Int × Int)) (q : Int × Int) : overs l (m ++ [q]) = if find l q.1 < 0 then put (overs l m) q else overs l m := over_snoc l m l q
set_option maxRecDepth 100000 in
set_option maxHeartbeats 2000000 in
theorem refOver_any (A A2 : Option Addr) (n c n2 c2 : Nat) (l m : List (Int × Int)) (w : World) (h : RowP w A n c l) (h2 : RowP w A2 n2 c2 m) (hn : n + n2 ≤ 90000) :
    Calls Tryd.prog 24 #[.slice A n c, .slice A2 n2 c2] w (RowR w (over l m)) := by
  have H := Lib.hid h; have H2 := Lib.hid h2; have HL := Lib.hid h.len; have HL2 := Lib.hid h2.len
  clear h h2
  go_enter Tryd.func24, Tryd.ntmps24
  go_wp2_with fail
  go_loopw [5, 6] (fun s i wr => ∃ (k r : Nat) (B : Option Addr) (d : Nat), k ≤ n2 ∧ i = .int .i64 k ∧ s = .slice B r d ∧ r ≤ n + k ∧ RowP wr B r d (overs l (m.take k)) ∧ Below w.heap.size w wr) (fun _ i _ => n2 - (RowKit.intOf i).toNat)
  case atStart => exact ⟨0, n, A, c, Nat.zero_le _, rfl, rfl, by omega, by simpa [overs] using H.out, Below.refl _ _⟩
  case round =>
    obtain ⟨k, r, B, d, hk, rfl, rfl, hr, hrow, hB⟩ := hrel
    have HRW := Lib.hid hrow; have HB := Lib.hid hB
    clear hrow hB
    by_cases hlt : k < n2
    · have HQ := Lib.hid (fun w3 h3 => (H2.out.below (w' := w3) h3).at k hlt)
      obtain ⟨a, rfl, a1, a2, k0, k1⟩ := HQ.out wr HB.out
      unfold maxLen at a2
      have hkl : k < m.length := by have := HL2.out; omega
      have htk := Lib.hid (take_succ m k hkl)
      generalize m.getD k (0, 0) = q at *
      obtain ⟨x, y⟩ := q
      simp only at k0 k1
      have k2 : wr.cell? ⟨(a.add (k * 2)).block, (a.add (k * 2)).off + 1, none⟩ = some (.int .i32 y) := by rw [← k1]; rfl
      have HP := Lib.hid (fun w2 h2 => refPut_any B r d (overs l (m.take k)) x y w2 h2 (by omega))
      have hfd := fun w2 h2 => refFind_any A n c l x w2 h2 (by omega)
      have hov := Lib.hid (overs_snoc l (m.take k) (x, y))
      by_cases hf : find l x < 0
      · have hov2 : Hid (overs l (m.take (k + 1)) = put (overs l (m.take k)) (x, y)) := Lib.hid (by rw [htk.out, hov.out, if_pos hf])
        generalize find l x = F at *
        have HF := Lib.hid (fun w2 h2 => hfd w2 (H.out.below h2))
        clear hfd HQ
        go_wp2_with (first | (go_at_call 20; refine (HF.out _ HB.out).mono ?_; rintro e1 w1 ⟨rfl, rfl⟩) | (go_at_call 48; refine (HP.out _ HRW.out).mono ?_; rintro e1 w1 ⟨v1, rfl, ho1, hb1⟩; obtain ⟨B1, d1, rfl, hr1⟩ := rowP_of ho1; have hl1 := HRW.out.len; rw [put_len, hl1] at hr1; rw [put_len, hl1]; have HR1 := Lib.hid hr1; have HB1 := Lib.hid (HB.out.trans (hb1.mono HB.out.size)); clear ho1 hb1 hr1 hl1))
        go_roundw
        case rel => exact ⟨k + 1, r + 1, B1, d1, by omega, by go_num, rfl, by omega, by rw [hov2.out]; exact HR1.out, HB1.out⟩
        case measure => simp [RowKit.intOf]; omega
      · have hov2 : Hid (overs l (m.take (k + 1)) = overs l (m.take k)) := Lib.hid (by rw [htk.out, hov.out, if_neg hf])
        have hf' : 0 ≤ find l x := by omega
        generalize find l x = F at *
        have HF := Lib.hid (fun w2 h2 => hfd w2 (H.out.below h2))
        clear hfd HQ
        go_wp2_with (go_at_call 20; refine (HF.out _ HB.out).mono ?_; rintro e1 w1 ⟨rfl, rfl⟩)
        go_roundw
        case rel => exact ⟨k + 1, r, B, d, by omega, by go_num, rfl, by omega, by rw [hov2.out]; exact HRW.out, HB.out⟩
        case measure => simp [RowKit.intOf]; omega
    · obtain rfl : k = n2 := by omega
      have htk : m.take k = m := by rw [← HL2.out]; exact List.take_length
      rw [htk] at HRW
      have hlen := Lib.hid HRW.out.len
      clear htk hlt
      go_wp2_with fail
      go_ret
      have e : over l m = overs l m := rfl
      exact ⟨B, d, by rw [e, hlen.out]; rfl, by rw [e, hlen.out]; exact HRW.out, HB.out⟩
end Go.Proofs.YtiokdeomdeenbaaDoor.tb
