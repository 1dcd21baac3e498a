/- Safe of a reader of layer 1, where a byte of the four is 128 or more: a contract; and all of Safe, Big, Small of a reader. -/
import Derived.Test.YtkhajafjieofhaaOct9
namespace Go.Proofs.Ytkhajafjieofhaa.oct
open Go.RowKit Go.PlainAid
set_option linter.unusedVariables false
set_option maxRecDepth 100000 in
theorem rsafe_bad (w : World) (b : Nat) (t : ByteArray) (k j : Nat) (bs at' : Int) (h : Rd w b t k bs 0 at') (hk : k + 4 ≤ t.size) (ht : t.size ≤ maxLen) (hj : j < 4) (hlo : ∀ i, i < j → bt t (k + i) < 128) (hhi : 128 ≤ bt t (k + j)) (z0 : 0 ≤ bs) (z1 : bs ≤ 9223372036854775807) :
    Calls Try.prog 66 #[.pointer (some ⟨b, 0, none⟩)] w fun e' w' => e' = .returned (.int .i64 0) ∧ Rd w' b t ((k + 4 : Nat) : Int) bs 1 (plc bs ((k + j : Nat) : Int)) ∧ Upd b w w' := by
  have T := take_ok w b t k 4 (t.size - k) bs at' h (by omega) (by omega) ht
  unfold maxLen at ht
  have hlo' : ∀ i, i < j → bt (t.extract k (k + 4)) i < 128 := fun i hi => by rw [bt_extract t k 4 i hk (by omega)]; exact hlo i hi
  have hhi' : 128 ≤ bt (t.extract k (k + 4)) j := by rw [bt_extract t k 4 j hk hj]; exact hhi
  have hs : (t.extract k (k + 4)).size = 4 := by rw [ByteArray.size_extract]; omega
  have hlt := h.lt
  generalize t.extract k (k + 4) = nx at T hlo' hhi' hs
  have HT := Lib.hid T; have LO := Lib.hid hlo'; have HI := Lib.hid hhi'; have HS := Lib.hid hs
  clear T hlo' hhi' hs hlo hhi h
  go_enter Try.func66, Try.ntmps66
  go_wp2_with (go_at_call 49; refine HT.out.mono ?_; rintro e2 w2 ⟨rfl, hR, hU⟩; have H2 := Lib.hid hR; clear hR)
  have c1 := H2.out.c1
  go_loop [3, 10] (fun n i => ∃ q : Nat, q ≤ j ∧ i = .int .i64 q ∧ ∃ v : Int, n = .int .i64 v) (fun _ i => nx.size - (intOf i).toNat)
  case atStart => exact ⟨0, Nat.zero_le _, rfl, 0, rfl⟩
  case round =>
    obtain ⟨q, hq, rfl, v, rfl⟩ := hrel
    have hqs : q < nx.size := by have := HS.out; omega
    by_cases hqj : q < j
    · have hb : ((nx[q].toNat : Nat) : Int) < 128 := by rw [get_bt]; exact LO.out q hqj
      go_wp2
      go_round
      case rel => exact ⟨q + 1, by omega, by go_num, _, rfl⟩
      case measure => simp [intOf]; omega
    · obtain rfl : q = j := by omega
      have hb : 128 ≤ ((nx[q].toNat : Nat) : Int) := by rw [get_bt]; exact HI.out
      have hs4 : (k : Int) + 4 - (nx.size : Int) + (q : Int) = ((k + q : Nat) : Int) := by have := HS.out; omega
      have hs5 : nx.size ≤ 4 := by have := HS.out; omega
      have HS4 := Lib.hid hs4
      clear hqj hs4
      go_wp2_with (first | (go_at_call 64; rw [HS4.out]; refine (place_on _ _ _ _ H2.out.lt H2.out.c2 z0 z1 (by omega) (by omega)).mono ?_; rintro e1 w3 ⟨rfl, rfl⟩) | (go_at_call 51; refine (fail_on _ _ _ _ _ _ _ _ H2.out rfl).mono ?_; rintro e2 w3 ⟨rfl, hR, hU3⟩))
      go_ret
      exact ⟨rfl, hR, hU.trans hU3⟩
end Go.Proofs.Ytkhajafjieofhaa.oct
