/- The document's answer of layer 2: At: the sign at a place: a contract. -/
import Derived.Test.YtgjndekgnkjknaaDoorPt5
namespace Go.Proofs.YtgjndekgnkjknaaDoor.pt
open Go.RowKit Go.Lib
set_option linter.unusedVariables false
/-- What goes on: six bits, or -1. -/
def mo (s : ByteArray) (i : Nat) : Int := if h : i < s.size then (if 128 ≤ s[i].toNat ∧ s[i].toNat ≤ 191 then (s[i].toNat : Int) - 128 else -1) else -1
theorem mo_any (s : ByteArray) (i k : Nat) (w : World) (hs : s.size ≤ 4000000000) : Calls Tryd.prog 55 #[.string s, .int .i64 ((i : Int) + (k : Int))] w fun x w' => x = .returned (.int .i32 (mo s (i + k))) ∧ w = w' := by
  have := more_any s (i + k) w hs
  rwa [Int.natCast_add] at this
theorem mo_range (s : ByteArray) (i : Nat) : mo s i = -1 ∨ (0 ≤ mo s i ∧ mo s i ≤ 63) := by
  unfold mo
  split
  · split
    · rename_i h; right; omega
    · left; rfl
  · left; rfl
theorem enc_size (q : Int) : (strOfNums (encodeRuneZ q)).size = (encodeRuneZ q).length := strOfNums_size _
set_option maxRecDepth 100000 in
theorem at_one (s : ByteArray) (i : Nat) (w : World) (hi : i < s.size) (hs : s.size ≤ 4000000000) (hc : s[i].toNat < 128) : Calls Tryd.prog 51 #[.string s, .int .i64 i] w fun x w' => x = .returned (.tuple #[.int .i32 s[i].toNat, .int .i64 1]) ∧ Below w.heap.size w w' := by
  go_enter Tryd.func51, Tryd.ntmps51
  go_wp2
  go_ret2
  exact ⟨rfl, Below.refl _ _⟩
set_option maxRecDepth 100000 in
theorem at_low (s : ByteArray) (i : Nat) (w : World) (hi : i < s.size) (hs : s.size ≤ 4000000000) (h1 : 128 ≤ s[i].toNat) (h2 : s[i].toNat < 192) : Calls Tryd.prog 51 #[.string s, .int .i64 i] w fun x w' => x = .returned (.tuple #[.int .i32 0, .int .i64 0]) ∧ Below w.heap.size w w' := by
  go_enter Tryd.func51, Tryd.ntmps51
  go_wp2
  go_ret2
  exact ⟨rfl, Below.refl _ _⟩
set_option maxRecDepth 100000 in
theorem at_high (s : ByteArray) (i : Nat) (w : World) (hi : i < s.size) (hs : s.size ≤ 4000000000) (h1 : 248 ≤ s[i].toNat) (h2 : s[i].toNat < 256) : Calls Tryd.prog 51 #[.string s, .int .i64 i] w fun x w' => x = .returned (.tuple #[.int .i32 0, .int .i64 0]) ∧ Below w.heap.size w w' := by
  go_enter Tryd.func51, Tryd.ntmps51
  go_wp2
  go_ret2
  exact ⟨rfl, Below.refl _ _⟩
set_option maxRecDepth 100000 in
set_option maxHeartbeats 1000000 in
theorem at_two_neg1 (s : ByteArray) (i : Nat) (w : World) (hi : i < s.size) (hs : s.size ≤ 4000000000) (h1 : 192 ≤ s[i].toNat) (h2 : s[i].toNat < 224) (e1 : mo s (i + 1) = -1) : Calls Tryd.prog 51 #[.string s, .int .i64 i] w fun x w' => x = .returned (.tuple #[.int .i32 0, .int .i64 0]) ∧ Below w.heap.size w w' := by
  have a1 : ∀ w2, Calls Tryd.prog 55 #[.string s, .int .i64 ((i : Int) + 1)] w2 fun x w' => x = .returned (.int .i32 (mo s (i + 1))) ∧ w2 = w' := fun w2 => mo_any s i 1 w2 hs
  rw [e1] at a1
  have A1 := Lib.hid a1
  clear a1 e1
  go_enter Tryd.func51, Tryd.ntmps51
  go_wp2_with fail
  refine wp_loop_rounds 1 ?_
  rw [rounds_succ]
  go_wp2_with (first | (go_at_call 55; with_reducible refine (A1.out _).mono ?_; rintro e1 w1 ⟨rfl, rfl⟩))
  go_ret2
  exact ⟨rfl, Below.refl _ _⟩
set_option maxRecDepth 100000 in
set_option maxHeartbeats 1000000 in
theorem at_two_len (s : ByteArray) (i : Nat) (w : World) (hi : i < s.size) (hs : s.size ≤ 4000000000) (h1 : 192 ≤ s[i].toNat) (h2 : s[i].toNat < 224) (m1 : Int) (e1 : mo s (i + 1) = m1) (l1 : 0 ≤ m1) (u1 : m1 ≤ 63) (hv : validRune (((s[i].toNat : Int) - 192) * 64 + m1) = true) (hl : (encodeRuneZ (((s[i].toNat : Int) - 192) * 64 + m1)).length ≠ 2) : Calls Tryd.prog 51 #[.string s, .int .i64 i] w fun x w' => x = .returned (.tuple #[.int .i32 0, .int .i64 0]) ∧ Below w.heap.size w w' := by
  have a1 : ∀ w2, Calls Tryd.prog 55 #[.string s, .int .i64 ((i : Int) + 1)] w2 fun x w' => x = .returned (.int .i32 (mo s (i + 1))) ∧ w2 = w' := fun w2 => mo_any s i 1 w2 hs
  rw [e1] at a1
  have A1 := Lib.hid a1
  have sc := fun w2 => refScalar_any (((s[i].toNat : Int) - 192) * 64 + m1) w2
  rw [hv] at sc
  have SC := Lib.hid sc
  have by' := fun w2 => bytes_any (((s[i].toNat : Int) - 192) * 64 + m1) w2 hv
  have sz : (strOfNums (encodeRuneZ (((s[i].toNat : Int) - 192) * 64 + m1))).size ≠ 2 := by rw [enc_size]; exact hl
  have sm : (strOfNums (encodeRuneZ (((s[i].toNat : Int) - 192) * 64 + m1))).size ≤ 4 := by rw [enc_size]; exact (encodeRuneZ_length _).2
  generalize strOfNums (encodeRuneZ (((s[i].toNat : Int) - 192) * 64 + m1)) = T at by' sz sm
  have BY := Lib.hid by'
  clear a1 e1 sc by' hv hl
  go_enter Tryd.func51, Tryd.ntmps51
  go_wp2_with fail
  refine wp_loop_rounds 2 ?_
  rw [rounds_succ]
  go_wp2_with (first | (go_at_call 55; with_reducible refine (A1.out _).mono ?_; rintro e1 w1 ⟨rfl, rfl⟩) | (go_at_call 56; refine (SC.out _).mono ?_; rintro e2 w2 ⟨rfl, rfl⟩) | (go_at_call 57; refine (BY.out _).mono ?_; rintro e3 w3 ⟨rfl, hb3⟩))
  rw [rounds_succ]
  go_wp2_with (first | (go_at_call 55; with_reducible refine (A1.out _).mono ?_; rintro e1 w1 ⟨rfl, rfl⟩) | (go_at_call 56; refine (SC.out _).mono ?_; rintro e2 w2 ⟨rfl, rfl⟩) | (go_at_call 57; refine (BY.out _).mono ?_; rintro e3 w3 ⟨rfl, hb3⟩))
  go_ret2
  exact ⟨rfl, hb3⟩
set_option maxRecDepth 100000 in
set_option maxHeartbeats 1000000 in
theorem at_two_ok (s : ByteArray) (i : Nat) (w : World) (hi : i < s.size) (hs : s.size ≤ 4000000000) (h1 : 192 ≤ s[i].toNat) (h2 : s[i].toNat < 224) (m1 : Int) (e1 : mo s (i + 1) = m1) (l1 : 0 ≤ m1) (u1 : m1 ≤ 63) (hv : validRune (((s[i].toNat : Int) - 192) * 64 + m1) = true) (hl : (encodeRuneZ (((s[i].toNat : Int) - 192) * 64 + m1)).length = 2) : Calls Tryd.prog 51 #[.string s, .int .i64 i] w fun x w' => x = .returned (.tuple #[.int .i32 (((s[i].toNat : Int) - 192) * 64 + m1), .int .i64 2]) ∧ Below w.heap.size w w' := by
  have a1 : ∀ w2, Calls Tryd.prog 55 #[.string s, .int .i64 ((i : Int) + 1)] w2 fun x w' => x = .returned (.int .i32 (mo s (i + 1))) ∧ w2 = w' := fun w2 => mo_any s i 1 w2 hs
  rw [e1] at a1
  have A1 := Lib.hid a1
  have sc := fun w2 => refScalar_any (((s[i].toNat : Int) - 192) * 64 + m1) w2
  rw [hv] at sc
  have SC := Lib.hid sc
  have by' := fun w2 => bytes_any (((s[i].toNat : Int) - 192) * 64 + m1) w2 hv
  have sz : (strOfNums (encodeRuneZ (((s[i].toNat : Int) - 192) * 64 + m1))).size = 2 := by rw [enc_size]; exact hl
  have sm : (strOfNums (encodeRuneZ (((s[i].toNat : Int) - 192) * 64 + m1))).size ≤ 4 := by rw [enc_size]; exact (encodeRuneZ_length _).2
  generalize strOfNums (encodeRuneZ (((s[i].toNat : Int) - 192) * 64 + m1)) = T at by' sz sm
  have BY := Lib.hid by'
  clear a1 e1 sc by' hv hl
  go_enter Tryd.func51, Tryd.ntmps51
  go_wp2_with fail
  refine wp_loop_rounds 2 ?_
  rw [rounds_succ]
  go_wp2_with (first | (go_at_call 55; with_reducible refine (A1.out _).mono ?_; rintro e1 w1 ⟨rfl, rfl⟩) | (go_at_call 56; refine (SC.out _).mono ?_; rintro e2 w2 ⟨rfl, rfl⟩) | (go_at_call 57; refine (BY.out _).mono ?_; rintro e3 w3 ⟨rfl, hb3⟩))
  rw [rounds_succ]
  go_wp2_with (first | (go_at_call 55; with_reducible refine (A1.out _).mono ?_; rintro e1 w1 ⟨rfl, rfl⟩) | (go_at_call 56; refine (SC.out _).mono ?_; rintro e2 w2 ⟨rfl, rfl⟩) | (go_at_call 57; refine (BY.out _).mono ?_; rintro e3 w3 ⟨rfl, hb3⟩))
  go_ret2
  exact ⟨rfl, hb3⟩
set_option maxRecDepth 100000 in
set_option maxHeartbeats 1000000 in
theorem at_three_neg1 (s : ByteArray) (i : Nat) (w : World) (hi : i < s.size) (hs : s.size ≤ 4000000000) (h1 : 224 ≤ s[i].toNat) (h2 : s[i].toNat < 240) (e1 : mo s (i + 1) = -1) : Calls Tryd.prog 51 #[.string s, .int .i64 i] w fun x w' => x = .returned (.tuple #[.int .i32 0, .int .i64 0]) ∧ Below w.heap.size w w' := by
  have a1 : ∀ w2, Calls Tryd.prog 55 #[.string s, .int .i64 ((i : Int) + 1)] w2 fun x w' => x = .returned (.int .i32 (mo s (i + 1))) ∧ w2 = w' := fun w2 => mo_any s i 1 w2 hs
  rw [e1] at a1
  have A1 := Lib.hid a1
  clear a1 e1
  go_enter Tryd.func51, Tryd.ntmps51
  go_wp2_with fail
  refine wp_loop_rounds 1 ?_
  rw [rounds_succ]
  go_wp2_with (first | (go_at_call 55; with_reducible refine (A1.out _).mono ?_; rintro e1 w1 ⟨rfl, rfl⟩))
  go_ret2
  exact ⟨rfl, Below.refl _ _⟩
set_option maxRecDepth 100000 in
set_option maxHeartbeats 1000000 in
theorem at_three_neg2 (s : ByteArray) (i : Nat) (w : World) (hi : i < s.size) (hs : s.size ≤ 4000000000) (h1 : 224 ≤ s[i].toNat) (h2 : s[i].toNat < 240) (m1 : Int) (e1 : mo s (i + 1) = m1) (l1 : 0 ≤ m1) (u1 : m1 ≤ 63) (e2 : mo s (i + 2) = -1) : Calls Tryd.prog 51 #[.string s, .int .i64 i] w fun x w' => x = .returned (.tuple #[.int .i32 0, .int .i64 0]) ∧ Below w.heap.size w w' := by
  have a1 : ∀ w2, Calls Tryd.prog 55 #[.string s, .int .i64 ((i : Int) + 1)] w2 fun x w' => x = .returned (.int .i32 (mo s (i + 1))) ∧ w2 = w' := fun w2 => mo_any s i 1 w2 hs
  rw [e1] at a1
  have A1 := Lib.hid a1
  have a2 : ∀ w2, Calls Tryd.prog 55 #[.string s, .int .i64 ((i : Int) + 2)] w2 fun x w' => x = .returned (.int .i32 (mo s (i + 2))) ∧ w2 = w' := fun w2 => mo_any s i 2 w2 hs
  rw [e2] at a2
  have A2 := Lib.hid a2
  clear a1 e1 a2 e2
  go_enter Tryd.func51, Tryd.ntmps51
  go_wp2_with fail
  refine wp_loop_rounds 2 ?_
  rw [rounds_succ]
  go_wp2_with (first | (go_at_call 55; with_reducible refine (A1.out _).mono ?_; rintro e1 w1 ⟨rfl, rfl⟩) | (go_at_call 55; with_reducible refine (A2.out _).mono ?_; rintro e1 w1 ⟨rfl, rfl⟩))
  rw [rounds_succ]
  go_wp2_with (first | (go_at_call 55; with_reducible refine (A1.out _).mono ?_; rintro e1 w1 ⟨rfl, rfl⟩) | (go_at_call 55; with_reducible refine (A2.out _).mono ?_; rintro e1 w1 ⟨rfl, rfl⟩))
  go_ret2
  exact ⟨rfl, Below.refl _ _⟩
set_option maxRecDepth 100000 in
set_option maxHeartbeats 1000000 in
theorem at_three_bad (s : ByteArray) (i : Nat) (w : World) (hi : i < s.size) (hs : s.size ≤ 4000000000) (h1 : 224 ≤ s[i].toNat) (h2 : s[i].toNat < 240) (m1 : Int) (e1 : mo s (i + 1) = m1) (l1 : 0 ≤ m1) (u1 : m1 ≤ 63) (m2 : Int) (e2 : mo s (i + 2) = m2) (l2 : 0 ≤ m2) (u2 : m2 ≤ 63) (hv : validRune ((((s[i].toNat : Int) - 224) * 64 + m1) * 64 + m2) = false) : Calls Tryd.prog 51 #[.string s, .int .i64 i] w fun x w' => x = .returned (.tuple #[.int .i32 0, .int .i64 0]) ∧ Below w.heap.size w w' := by
  have a1 : ∀ w2, Calls Tryd.prog 55 #[.string s, .int .i64 ((i : Int) + 1)] w2 fun x w' => x = .returned (.int .i32 (mo s (i + 1))) ∧ w2 = w' := fun w2 => mo_any s i 1 w2 hs
  rw [e1] at a1
  have A1 := Lib.hid a1
  have a2 : ∀ w2, Calls Tryd.prog 55 #[.string s, .int .i64 ((i : Int) + 2)] w2 fun x w' => x = .returned (.int .i32 (mo s (i + 2))) ∧ w2 = w' := fun w2 => mo_any s i 2 w2 hs
  rw [e2] at a2
  have A2 := Lib.hid a2
  have sc := fun w2 => refScalar_any ((((s[i].toNat : Int) - 224) * 64 + m1) * 64 + m2) w2
  rw [hv] at sc
  have SC := Lib.hid sc
  clear a1 e1 a2 e2 sc hv
  go_enter Tryd.func51, Tryd.ntmps51
  go_wp2_with fail
  refine wp_loop_rounds 3 ?_
  rw [rounds_succ]
  go_wp2_with (first | (go_at_call 55; with_reducible refine (A1.out _).mono ?_; rintro e1 w1 ⟨rfl, rfl⟩) | (go_at_call 55; with_reducible refine (A2.out _).mono ?_; rintro e1 w1 ⟨rfl, rfl⟩) | (go_at_call 56; refine (SC.out _).mono ?_; rintro e2 w2 ⟨rfl, rfl⟩))
  rw [rounds_succ]
  go_wp2_with (first | (go_at_call 55; with_reducible refine (A1.out _).mono ?_; rintro e1 w1 ⟨rfl, rfl⟩) | (go_at_call 55; with_reducible refine (A2.out _).mono ?_; rintro e1 w1 ⟨rfl, rfl⟩) | (go_at_call 56; refine (SC.out _).mono ?_; rintro e2 w2 ⟨rfl, rfl⟩))
  rw [rounds_succ]
  go_wp2_with (first | (go_at_call 55; with_reducible refine (A1.out _).mono ?_; rintro e1 w1 ⟨rfl, rfl⟩) | (go_at_call 55; with_reducible refine (A2.out _).mono ?_; rintro e1 w1 ⟨rfl, rfl⟩) | (go_at_call 56; refine (SC.out _).mono ?_; rintro e2 w2 ⟨rfl, rfl⟩))
  go_ret2
  exact ⟨rfl, Below.refl _ _⟩
set_option maxRecDepth 100000 in
set_option maxHeartbeats 1000000 in
theorem at_three_len (s : ByteArray) (i : Nat) (w : World) (hi : i < s.size) (hs : s.size ≤ 4000000000) (h1 : 224 ≤ s[i].toNat) (h2 : s[i].toNat < 240) (m1 : Int) (e1 : mo s (i + 1) = m1) (l1 : 0 ≤ m1) (u1 : m1 ≤ 63) (m2 : Int) (e2 : mo s (i + 2) = m2) (l2 : 0 ≤ m2) (u2 : m2 ≤ 63) (hv : validRune ((((s[i].toNat : Int) - 224) * 64 + m1) * 64 + m2) = true) (hl : (encodeRuneZ ((((s[i].toNat : Int) - 224) * 64 + m1) * 64 + m2)).length ≠ 3) : Calls Tryd.prog 51 #[.string s, .int .i64 i] w fun x w' => x = .returned (.tuple #[.int .i32 0, .int .i64 0]) ∧ Below w.heap.size w w' := by
  have a1 : ∀ w2, Calls Tryd.prog 55 #[.string s, .int .i64 ((i : Int) + 1)] w2 fun x w' => x = .returned (.int .i32 (mo s (i + 1))) ∧ w2 = w' := fun w2 => mo_any s i 1 w2 hs
  rw [e1] at a1
  have A1 := Lib.hid a1
  have a2 : ∀ w2, Calls Tryd.prog 55 #[.string s, .int .i64 ((i : Int) + 2)] w2 fun x w' => x = .returned (.int .i32 (mo s (i + 2))) ∧ w2 = w' := fun w2 => mo_any s i 2 w2 hs
  rw [e2] at a2
  have A2 := Lib.hid a2
  have sc := fun w2 => refScalar_any ((((s[i].toNat : Int) - 224) * 64 + m1) * 64 + m2) w2
  rw [hv] at sc
  have SC := Lib.hid sc
  have by' := fun w2 => bytes_any ((((s[i].toNat : Int) - 224) * 64 + m1) * 64 + m2) w2 hv
  have sz : (strOfNums (encodeRuneZ ((((s[i].toNat : Int) - 224) * 64 + m1) * 64 + m2))).size ≠ 3 := by rw [enc_size]; exact hl
  have sm : (strOfNums (encodeRuneZ ((((s[i].toNat : Int) - 224) * 64 + m1) * 64 + m2))).size ≤ 4 := by rw [enc_size]; exact (encodeRuneZ_length _).2
  generalize strOfNums (encodeRuneZ ((((s[i].toNat : Int) - 224) * 64 + m1) * 64 + m2)) = T at by' sz sm
  have BY := Lib.hid by'
  clear a1 e1 a2 e2 sc by' hv hl
  go_enter Tryd.func51, Tryd.ntmps51
  go_wp2_with fail
  refine wp_loop_rounds 3 ?_
  rw [rounds_succ]
  go_wp2_with (first | (go_at_call 55; with_reducible refine (A1.out _).mono ?_; rintro e1 w1 ⟨rfl, rfl⟩) | (go_at_call 55; with_reducible refine (A2.out _).mono ?_; rintro e1 w1 ⟨rfl, rfl⟩) | (go_at_call 56; refine (SC.out _).mono ?_; rintro e2 w2 ⟨rfl, rfl⟩) | (go_at_call 57; refine (BY.out _).mono ?_; rintro e3 w3 ⟨rfl, hb3⟩))
  rw [rounds_succ]
  go_wp2_with (first | (go_at_call 55; with_reducible refine (A1.out _).mono ?_; rintro e1 w1 ⟨rfl, rfl⟩) | (go_at_call 55; with_reducible refine (A2.out _).mono ?_; rintro e1 w1 ⟨rfl, rfl⟩) | (go_at_call 56; refine (SC.out _).mono ?_; rintro e2 w2 ⟨rfl, rfl⟩) | (go_at_call 57; refine (BY.out _).mono ?_; rintro e3 w3 ⟨rfl, hb3⟩))
  rw [rounds_succ]
  go_wp2_with (first | (go_at_call 55; with_reducible refine (A1.out _).mono ?_; rintro e1 w1 ⟨rfl, rfl⟩) | (go_at_call 55; with_reducible refine (A2.out _).mono ?_; rintro e1 w1 ⟨rfl, rfl⟩) | (go_at_call 56; refine (SC.out _).mono ?_; rintro e2 w2 ⟨rfl, rfl⟩) | (go_at_call 57; refine (BY.out _).mono ?_; rintro e3 w3 ⟨rfl, hb3⟩))
  go_ret2
  exact ⟨rfl, hb3⟩
set_option maxRecDepth 100000 in
set_option maxHeartbeats 1000000 in
theorem at_three_ok (s : ByteArray) (i : Nat) (w : World) (hi : i < s.size) (hs : s.size ≤ 4000000000) (h1 : 224 ≤ s[i].toNat) (h2 : s[i].toNat < 240) (m1 : Int) (e1 : mo s (i + 1) = m1) (l1 : 0 ≤ m1) (u1 : m1 ≤ 63) (m2 : Int) (e2 : mo s (i + 2) = m2) (l2 : 0 ≤ m2) (u2 : m2 ≤ 63) (hv : validRune ((((s[i].toNat : Int) - 224) * 64 + m1) * 64 + m2) = true) (hl : (encodeRuneZ ((((s[i].toNat : Int) - 224) * 64 + m1) * 64 + m2)).length = 3) : Calls Tryd.prog 51 #[.string s, .int .i64 i] w fun x w' => x = .returned (.tuple #[.int .i32 ((((s[i].toNat : Int) - 224) * 64 + m1) * 64 + m2), .int .i64 3]) ∧ Below w.heap.size w w' := by
  have a1 : ∀ w2, Calls Tryd.prog 55 #[.string s, .int .i64 ((i : Int) + 1)] w2 fun x w' => x = .returned (.int .i32 (mo s (i + 1))) ∧ w2 = w' := fun w2 => mo_any s i 1 w2 hs
  rw [e1] at a1
  have A1 := Lib.hid a1
  have a2 : ∀ w2, Calls Tryd.prog 55 #[.string s, .int .i64 ((i : Int) + 2)] w2 fun x w' => x = .returned (.int .i32 (mo s (i + 2))) ∧ w2 = w' := fun w2 => mo_any s i 2 w2 hs
  rw [e2] at a2
  have A2 := Lib.hid a2
  have sc := fun w2 => refScalar_any ((((s[i].toNat : Int) - 224) * 64 + m1) * 64 + m2) w2
  rw [hv] at sc
  have SC := Lib.hid sc
  have by' := fun w2 => bytes_any ((((s[i].toNat : Int) - 224) * 64 + m1) * 64 + m2) w2 hv
  have sz : (strOfNums (encodeRuneZ ((((s[i].toNat : Int) - 224) * 64 + m1) * 64 + m2))).size = 3 := by rw [enc_size]; exact hl
  have sm : (strOfNums (encodeRuneZ ((((s[i].toNat : Int) - 224) * 64 + m1) * 64 + m2))).size ≤ 4 := by rw [enc_size]; exact (encodeRuneZ_length _).2
  generalize strOfNums (encodeRuneZ ((((s[i].toNat : Int) - 224) * 64 + m1) * 64 + m2)) = T at by' sz sm
  have BY := Lib.hid by'
  clear a1 e1 a2 e2 sc by' hv hl
  go_enter Tryd.func51, Tryd.ntmps51
  go_wp2_with fail
  refine wp_loop_rounds 3 ?_
  rw [rounds_succ]
  go_wp2_with (first | (go_at_call 55; with_reducible refine (A1.out _).mono ?_; rintro e1 w1 ⟨rfl, rfl⟩) | (go_at_call 55; with_reducible refine (A2.out _).mono ?_; rintro e1 w1 ⟨rfl, rfl⟩) | (go_at_call 56; refine (SC.out _).mono ?_; rintro e2 w2 ⟨rfl, rfl⟩) | (go_at_call 57; refine (BY.out _).mono ?_; rintro e3 w3 ⟨rfl, hb3⟩))
  rw [rounds_succ]
  go_wp2_with (first | (go_at_call 55; with_reducible refine (A1.out _).mono ?_; rintro e1 w1 ⟨rfl, rfl⟩) | (go_at_call 55; with_reducible refine (A2.out _).mono ?_; rintro e1 w1 ⟨rfl, rfl⟩) | (go_at_call 56; refine (SC.out _).mono ?_; rintro e2 w2 ⟨rfl, rfl⟩) | (go_at_call 57; refine (BY.out _).mono ?_; rintro e3 w3 ⟨rfl, hb3⟩))
  rw [rounds_succ]
  go_wp2_with (first | (go_at_call 55; with_reducible refine (A1.out _).mono ?_; rintro e1 w1 ⟨rfl, rfl⟩) | (go_at_call 55; with_reducible refine (A2.out _).mono ?_; rintro e1 w1 ⟨rfl, rfl⟩) | (go_at_call 56; refine (SC.out _).mono ?_; rintro e2 w2 ⟨rfl, rfl⟩) | (go_at_call 57; refine (BY.out _).mono ?_; rintro e3 w3 ⟨rfl, hb3⟩))
  go_ret2
  exact ⟨rfl, hb3⟩
set_option maxRecDepth 100000 in
set_option maxHeartbeats 1000000 in
theorem at_four_neg1 (s : ByteArray) (i : Nat) (w : World) (hi : i < s.size) (hs : s.size ≤ 4000000000) (h1 : 240 ≤ s[i].toNat) (h2 : s[i].toNat < 248) (e1 : mo s (i + 1) = -1) : Calls Tryd.prog 51 #[.string s, .int .i64 i] w fun x w' => x = .returned (.tuple #[.int .i32 0, .int .i64 0]) ∧ Below w.heap.size w w' := by
  have a1 : ∀ w2, Calls Tryd.prog 55 #[.string s, .int .i64 ((i : Int) + 1)] w2 fun x w' => x = .returned (.int .i32 (mo s (i + 1))) ∧ w2 = w' := fun w2 => mo_any s i 1 w2 hs
  rw [e1] at a1
  have A1 := Lib.hid a1
  clear a1 e1
  go_enter Tryd.func51, Tryd.ntmps51
  go_wp2_with fail
  refine wp_loop_rounds 1 ?_
  rw [rounds_succ]
  go_wp2_with (first | (go_at_call 55; with_reducible refine (A1.out _).mono ?_; rintro e1 w1 ⟨rfl, rfl⟩))
  go_ret2
  exact ⟨rfl, Below.refl _ _⟩
set_option maxRecDepth 100000 in
set_option maxHeartbeats 1000000 in
theorem at_four_neg2 (s : ByteArray) (i : Nat) (w : World) (hi : i < s.size) (hs : s.size ≤ 4000000000) (h1 : 240 ≤ s[i].toNat) (h2 : s[i].toNat < 248) (m1 : Int) (e1 : mo s (i + 1) = m1) (l1 : 0 ≤ m1) (u1 : m1 ≤ 63) (e2 : mo s (i + 2) = -1) : Calls Tryd.prog 51 #[.string s, .int .i64 i] w fun x w' => x = .returned (.tuple #[.int .i32 0, .int .i64 0]) ∧ Below w.heap.size w w' := by
  have a1 : ∀ w2, Calls Tryd.prog 55 #[.string s, .int .i64 ((i : Int) + 1)] w2 fun x w' => x = .returned (.int .i32 (mo s (i + 1))) ∧ w2 = w' := fun w2 => mo_any s i 1 w2 hs
  rw [e1] at a1
  have A1 := Lib.hid a1
  have a2 : ∀ w2, Calls Tryd.prog 55 #[.string s, .int .i64 ((i : Int) + 2)] w2 fun x w' => x = .returned (.int .i32 (mo s (i + 2))) ∧ w2 = w' := fun w2 => mo_any s i 2 w2 hs
  rw [e2] at a2
  have A2 := Lib.hid a2
  clear a1 e1 a2 e2
  go_enter Tryd.func51, Tryd.ntmps51
  go_wp2_with fail
  refine wp_loop_rounds 2 ?_
  rw [rounds_succ]
  go_wp2_with (first | (go_at_call 55; with_reducible refine (A1.out _).mono ?_; rintro e1 w1 ⟨rfl, rfl⟩) | (go_at_call 55; with_reducible refine (A2.out _).mono ?_; rintro e1 w1 ⟨rfl, rfl⟩))
  rw [rounds_succ]
  go_wp2_with (first | (go_at_call 55; with_reducible refine (A1.out _).mono ?_; rintro e1 w1 ⟨rfl, rfl⟩) | (go_at_call 55; with_reducible refine (A2.out _).mono ?_; rintro e1 w1 ⟨rfl, rfl⟩))
  go_ret2
  exact ⟨rfl, Below.refl _ _⟩
set_option maxRecDepth 100000 in
set_option maxHeartbeats 1000000 in
theorem at_four_neg3 (s : ByteArray) (i : Nat) (w : World) (hi : i < s.size) (hs : s.size ≤ 4000000000) (h1 : 240 ≤ s[i].toNat) (h2 : s[i].toNat < 248) (m1 : Int) (e1 : mo s (i + 1) = m1) (l1 : 0 ≤ m1) (u1 : m1 ≤ 63) (m2 : Int) (e2 : mo s (i + 2) = m2) (l2 : 0 ≤ m2) (u2 : m2 ≤ 63) (e3 : mo s (i + 3) = -1) : Calls Tryd.prog 51 #[.string s, .int .i64 i] w fun x w' => x = .returned (.tuple #[.int .i32 0, .int .i64 0]) ∧ Below w.heap.size w w' := by
  have a1 : ∀ w2, Calls Tryd.prog 55 #[.string s, .int .i64 ((i : Int) + 1)] w2 fun x w' => x = .returned (.int .i32 (mo s (i + 1))) ∧ w2 = w' := fun w2 => mo_any s i 1 w2 hs
  rw [e1] at a1
  have A1 := Lib.hid a1
  have a2 : ∀ w2, Calls Tryd.prog 55 #[.string s, .int .i64 ((i : Int) + 2)] w2 fun x w' => x = .returned (.int .i32 (mo s (i + 2))) ∧ w2 = w' := fun w2 => mo_any s i 2 w2 hs
  rw [e2] at a2
  have A2 := Lib.hid a2
  have a3 : ∀ w2, Calls Tryd.prog 55 #[.string s, .int .i64 ((i : Int) + 3)] w2 fun x w' => x = .returned (.int .i32 (mo s (i + 3))) ∧ w2 = w' := fun w2 => mo_any s i 3 w2 hs
  rw [e3] at a3
  have A3 := Lib.hid a3
  clear a1 e1 a2 e2 a3 e3
  go_enter Tryd.func51, Tryd.ntmps51
  go_wp2_with fail
  refine wp_loop_rounds 3 ?_
  rw [rounds_succ]
  go_wp2_with (first | (go_at_call 55; with_reducible refine (A1.out _).mono ?_; rintro e1 w1 ⟨rfl, rfl⟩) | (go_at_call 55; with_reducible refine (A2.out _).mono ?_; rintro e1 w1 ⟨rfl, rfl⟩) | (go_at_call 55; with_reducible refine (A3.out _).mono ?_; rintro e1 w1 ⟨rfl, rfl⟩))
  rw [rounds_succ]
  go_wp2_with (first | (go_at_call 55; with_reducible refine (A1.out _).mono ?_; rintro e1 w1 ⟨rfl, rfl⟩) | (go_at_call 55; with_reducible refine (A2.out _).mono ?_; rintro e1 w1 ⟨rfl, rfl⟩) | (go_at_call 55; with_reducible refine (A3.out _).mono ?_; rintro e1 w1 ⟨rfl, rfl⟩))
  rw [rounds_succ]
  go_wp2_with (first | (go_at_call 55; with_reducible refine (A1.out _).mono ?_; rintro e1 w1 ⟨rfl, rfl⟩) | (go_at_call 55; with_reducible refine (A2.out _).mono ?_; rintro e1 w1 ⟨rfl, rfl⟩) | (go_at_call 55; with_reducible refine (A3.out _).mono ?_; rintro e1 w1 ⟨rfl, rfl⟩))
  go_ret2
  exact ⟨rfl, Below.refl _ _⟩
set_option maxRecDepth 100000 in
set_option maxHeartbeats 1000000 in
theorem at_four_bad (s : ByteArray) (i : Nat) (w : World) (hi : i < s.size) (hs : s.size ≤ 4000000000) (h1 : 240 ≤ s[i].toNat) (h2 : s[i].toNat < 248) (m1 : Int) (e1 : mo s (i + 1) = m1) (l1 : 0 ≤ m1) (u1 : m1 ≤ 63) (m2 : Int) (e2 : mo s (i + 2) = m2) (l2 : 0 ≤ m2) (u2 : m2 ≤ 63) (m3 : Int) (e3 : mo s (i + 3) = m3) (l3 : 0 ≤ m3) (u3 : m3 ≤ 63) (hv : validRune (((((s[i].toNat : Int) - 240) * 64 + m1) * 64 + m2) * 64 + m3) = false) : Calls Tryd.prog 51 #[.string s, .int .i64 i] w fun x w' => x = .returned (.tuple #[.int .i32 0, .int .i64 0]) ∧ Below w.heap.size w w' := by
  have a1 : ∀ w2, Calls Tryd.prog 55 #[.string s, .int .i64 ((i : Int) + 1)] w2 fun x w' => x = .returned (.int .i32 (mo s (i + 1))) ∧ w2 = w' := fun w2 => mo_any s i 1 w2 hs
  rw [e1] at a1
  have A1 := Lib.hid a1
  have a2 : ∀ w2, Calls Tryd.prog 55 #[.string s, .int .i64 ((i : Int) + 2)] w2 fun x w' => x = .returned (.int .i32 (mo s (i + 2))) ∧ w2 = w' := fun w2 => mo_any s i 2 w2 hs
  rw [e2] at a2
  have A2 := Lib.hid a2
  have a3 : ∀ w2, Calls Tryd.prog 55 #[.string s, .int .i64 ((i : Int) + 3)] w2 fun x w' => x = .returned (.int .i32 (mo s (i + 3))) ∧ w2 = w' := fun w2 => mo_any s i 3 w2 hs
  rw [e3] at a3
  have A3 := Lib.hid a3
  have sc := fun w2 => refScalar_any (((((s[i].toNat : Int) - 240) * 64 + m1) * 64 + m2) * 64 + m3) w2
  rw [hv] at sc
  have SC := Lib.hid sc
  clear a1 e1 a2 e2 a3 e3 sc hv
  go_enter Tryd.func51, Tryd.ntmps51
  go_wp2_with fail
  refine wp_loop_rounds 4 ?_
  rw [rounds_succ]
  go_wp2_with (first | (go_at_call 55; with_reducible refine (A1.out _).mono ?_; rintro e1 w1 ⟨rfl, rfl⟩) | (go_at_call 55; with_reducible refine (A2.out _).mono ?_; rintro e1 w1 ⟨rfl, rfl⟩) | (go_at_call 55; with_reducible refine (A3.out _).mono ?_; rintro e1 w1 ⟨rfl, rfl⟩) | (go_at_call 56; refine (SC.out _).mono ?_; rintro e2 w2 ⟨rfl, rfl⟩))
  rw [rounds_succ]
  go_wp2_with (first | (go_at_call 55; with_reducible refine (A1.out _).mono ?_; rintro e1 w1 ⟨rfl, rfl⟩) | (go_at_call 55; with_reducible refine (A2.out _).mono ?_; rintro e1 w1 ⟨rfl, rfl⟩) | (go_at_call 55; with_reducible refine (A3.out _).mono ?_; rintro e1 w1 ⟨rfl, rfl⟩) | (go_at_call 56; refine (SC.out _).mono ?_; rintro e2 w2 ⟨rfl, rfl⟩))
  rw [rounds_succ]
  go_wp2_with (first | (go_at_call 55; with_reducible refine (A1.out _).mono ?_; rintro e1 w1 ⟨rfl, rfl⟩) | (go_at_call 55; with_reducible refine (A2.out _).mono ?_; rintro e1 w1 ⟨rfl, rfl⟩) | (go_at_call 55; with_reducible refine (A3.out _).mono ?_; rintro e1 w1 ⟨rfl, rfl⟩) | (go_at_call 56; refine (SC.out _).mono ?_; rintro e2 w2 ⟨rfl, rfl⟩))
  rw [rounds_succ]
  go_wp2_with (first | (go_at_call 55; with_reducible refine (A1.out _).mono ?_; rintro e1 w1 ⟨rfl, rfl⟩) | (go_at_call 55; with_reducible refine (A2.out _).mono ?_; rintro e1 w1 ⟨rfl, rfl⟩) | (go_at_call 55; with_reducible refine (A3.out _).mono ?_; rintro e1 w1 ⟨rfl, rfl⟩) | (go_at_call 56; refine (SC.out _).mono ?_; rintro e2 w2 ⟨rfl, rfl⟩))
  go_ret2
  exact ⟨rfl, Below.refl _ _⟩
set_option maxRecDepth 100000 in
set_option maxHeartbeats 1000000 in
theorem at_four_len (s : ByteArray) (i : Nat) (w : World) (hi : i < s.size) (hs : s.size ≤ 4000000000) (h1 : 240 ≤ s[i].toNat) (h2 : s[i].toNat < 248) (m1 : Int) (e1 : mo s (i + 1) = m1) (l1 : 0 ≤ m1) (u1 : m1 ≤ 63) (m2 : Int) (e2 : mo s (i + 2) = m2) (l2 : 0 ≤ m2) (u2 : m2 ≤ 63) (m3 : Int) (e3 : mo s (i + 3) = m3) (l3 : 0 ≤ m3) (u3 : m3 ≤ 63) (hv : validRune (((((s[i].toNat : Int) - 240) * 64 + m1) * 64 + m2) * 64 + m3) = true) (hl : (encodeRuneZ (((((s[i].toNat : Int) - 240) * 64 + m1) * 64 + m2) * 64 + m3)).length ≠ 4) : Calls Tryd.prog 51 #[.string s, .int .i64 i] w fun x w' => x = .returned (.tuple #[.int .i32 0, .int .i64 0]) ∧ Below w.heap.size w w' := by
  have a1 : ∀ w2, Calls Tryd.prog 55 #[.string s, .int .i64 ((i : Int) + 1)] w2 fun x w' => x = .returned (.int .i32 (mo s (i + 1))) ∧ w2 = w' := fun w2 => mo_any s i 1 w2 hs
  rw [e1] at a1
  have A1 := Lib.hid a1
  have a2 : ∀ w2, Calls Tryd.prog 55 #[.string s, .int .i64 ((i : Int) + 2)] w2 fun x w' => x = .returned (.int .i32 (mo s (i + 2))) ∧ w2 = w' := fun w2 => mo_any s i 2 w2 hs
  rw [e2] at a2
  have A2 := Lib.hid a2
  have a3 : ∀ w2, Calls Tryd.prog 55 #[.string s, .int .i64 ((i : Int) + 3)] w2 fun x w' => x = .returned (.int .i32 (mo s (i + 3))) ∧ w2 = w' := fun w2 => mo_any s i 3 w2 hs
  rw [e3] at a3
  have A3 := Lib.hid a3
  have sc := fun w2 => refScalar_any (((((s[i].toNat : Int) - 240) * 64 + m1) * 64 + m2) * 64 + m3) w2
  rw [hv] at sc
  have SC := Lib.hid sc
  have by' := fun w2 => bytes_any (((((s[i].toNat : Int) - 240) * 64 + m1) * 64 + m2) * 64 + m3) w2 hv
  have sz : (strOfNums (encodeRuneZ (((((s[i].toNat : Int) - 240) * 64 + m1) * 64 + m2) * 64 + m3))).size ≠ 4 := by rw [enc_size]; exact hl
  have sm : (strOfNums (encodeRuneZ (((((s[i].toNat : Int) - 240) * 64 + m1) * 64 + m2) * 64 + m3))).size ≤ 4 := by rw [enc_size]; exact (encodeRuneZ_length _).2
  generalize strOfNums (encodeRuneZ (((((s[i].toNat : Int) - 240) * 64 + m1) * 64 + m2) * 64 + m3)) = T at by' sz sm
  have BY := Lib.hid by'
  clear a1 e1 a2 e2 a3 e3 sc by' hv hl
  go_enter Tryd.func51, Tryd.ntmps51
  go_wp2_with fail
  refine wp_loop_rounds 4 ?_
  rw [rounds_succ]
  go_wp2_with (first | (go_at_call 55; with_reducible refine (A1.out _).mono ?_; rintro e1 w1 ⟨rfl, rfl⟩) | (go_at_call 55; with_reducible refine (A2.out _).mono ?_; rintro e1 w1 ⟨rfl, rfl⟩) | (go_at_call 55; with_reducible refine (A3.out _).mono ?_; rintro e1 w1 ⟨rfl, rfl⟩) | (go_at_call 56; refine (SC.out _).mono ?_; rintro e2 w2 ⟨rfl, rfl⟩) | (go_at_call 57; refine (BY.out _).mono ?_; rintro e3 w3 ⟨rfl, hb3⟩))
  rw [rounds_succ]
  go_wp2_with (first | (go_at_call 55; with_reducible refine (A1.out _).mono ?_; rintro e1 w1 ⟨rfl, rfl⟩) | (go_at_call 55; with_reducible refine (A2.out _).mono ?_; rintro e1 w1 ⟨rfl, rfl⟩) | (go_at_call 55; with_reducible refine (A3.out _).mono ?_; rintro e1 w1 ⟨rfl, rfl⟩) | (go_at_call 56; refine (SC.out _).mono ?_; rintro e2 w2 ⟨rfl, rfl⟩) | (go_at_call 57; refine (BY.out _).mono ?_; rintro e3 w3 ⟨rfl, hb3⟩))
  rw [rounds_succ]
  go_wp2_with (first | (go_at_call 55; with_reducible refine (A1.out _).mono ?_; rintro e1 w1 ⟨rfl, rfl⟩) | (go_at_call 55; with_reducible refine (A2.out _).mono ?_; rintro e1 w1 ⟨rfl, rfl⟩) | (go_at_call 55; with_reducible refine (A3.out _).mono ?_; rintro e1 w1 ⟨rfl, rfl⟩) | (go_at_call 56; refine (SC.out _).mono ?_; rintro e2 w2 ⟨rfl, rfl⟩) | (go_at_call 57; refine (BY.out _).mono ?_; rintro e3 w3 ⟨rfl, hb3⟩))
  rw [rounds_succ]
  go_wp2_with (first | (go_at_call 55; with_reducible refine (A1.out _).mono ?_; rintro e1 w1 ⟨rfl, rfl⟩) | (go_at_call 55; with_reducible refine (A2.out _).mono ?_; rintro e1 w1 ⟨rfl, rfl⟩) | (go_at_call 55; with_reducible refine (A3.out _).mono ?_; rintro e1 w1 ⟨rfl, rfl⟩) | (go_at_call 56; refine (SC.out _).mono ?_; rintro e2 w2 ⟨rfl, rfl⟩) | (go_at_call 57; refine (BY.out _).mono ?_; rintro e3 w3 ⟨rfl, hb3⟩))
  go_ret2
  exact ⟨rfl, hb3⟩
set_option maxRecDepth 100000 in
set_option maxHeartbeats 1000000 in
theorem at_four_ok (s : ByteArray) (i : Nat) (w : World) (hi : i < s.size) (hs : s.size ≤ 4000000000) (h1 : 240 ≤ s[i].toNat) (h2 : s[i].toNat < 248) (m1 : Int) (e1 : mo s (i + 1) = m1) (l1 : 0 ≤ m1) (u1 : m1 ≤ 63) (m2 : Int) (e2 : mo s (i + 2) = m2) (l2 : 0 ≤ m2) (u2 : m2 ≤ 63) (m3 : Int) (e3 : mo s (i + 3) = m3) (l3 : 0 ≤ m3) (u3 : m3 ≤ 63) (hv : validRune (((((s[i].toNat : Int) - 240) * 64 + m1) * 64 + m2) * 64 + m3) = true) (hl : (encodeRuneZ (((((s[i].toNat : Int) - 240) * 64 + m1) * 64 + m2) * 64 + m3)).length = 4) : Calls Tryd.prog 51 #[.string s, .int .i64 i] w fun x w' => x = .returned (.tuple #[.int .i32 (((((s[i].toNat : Int) - 240) * 64 + m1) * 64 + m2) * 64 + m3), .int .i64 4]) ∧ Below w.heap.size w w' := by
  have a1 : ∀ w2, Calls Tryd.prog 55 #[.string s, .int .i64 ((i : Int) + 1)] w2 fun x w' => x = .returned (.int .i32 (mo s (i + 1))) ∧ w2 = w' := fun w2 => mo_any s i 1 w2 hs
  rw [e1] at a1
  have A1 := Lib.hid a1
  have a2 : ∀ w2, Calls Tryd.prog 55 #[.string s, .int .i64 ((i : Int) + 2)] w2 fun x w' => x = .returned (.int .i32 (mo s (i + 2))) ∧ w2 = w' := fun w2 => mo_any s i 2 w2 hs
  rw [e2] at a2
  have A2 := Lib.hid a2
  have a3 : ∀ w2, Calls Tryd.prog 55 #[.string s, .int .i64 ((i : Int) + 3)] w2 fun x w' => x = .returned (.int .i32 (mo s (i + 3))) ∧ w2 = w' := fun w2 => mo_any s i 3 w2 hs
  rw [e3] at a3
  have A3 := Lib.hid a3
  have sc := fun w2 => refScalar_any (((((s[i].toNat : Int) - 240) * 64 + m1) * 64 + m2) * 64 + m3) w2
  rw [hv] at sc
  have SC := Lib.hid sc
  have by' := fun w2 => bytes_any (((((s[i].toNat : Int) - 240) * 64 + m1) * 64 + m2) * 64 + m3) w2 hv
  have sz : (strOfNums (encodeRuneZ (((((s[i].toNat : Int) - 240) * 64 + m1) * 64 + m2) * 64 + m3))).size = 4 := by rw [enc_size]; exact hl
  have sm : (strOfNums (encodeRuneZ (((((s[i].toNat : Int) - 240) * 64 + m1) * 64 + m2) * 64 + m3))).size ≤ 4 := by rw [enc_size]; exact (encodeRuneZ_length _).2
  generalize strOfNums (encodeRuneZ (((((s[i].toNat : Int) - 240) * 64 + m1) * 64 + m2) * 64 + m3)) = T at by' sz sm
  have BY := Lib.hid by'
  clear a1 e1 a2 e2 a3 e3 sc by' hv hl
  go_enter Tryd.func51, Tryd.ntmps51
  go_wp2_with fail
  refine wp_loop_rounds 4 ?_
  rw [rounds_succ]
  go_wp2_with (first | (go_at_call 55; with_reducible refine (A1.out _).mono ?_; rintro e1 w1 ⟨rfl, rfl⟩) | (go_at_call 55; with_reducible refine (A2.out _).mono ?_; rintro e1 w1 ⟨rfl, rfl⟩) | (go_at_call 55; with_reducible refine (A3.out _).mono ?_; rintro e1 w1 ⟨rfl, rfl⟩) | (go_at_call 56; refine (SC.out _).mono ?_; rintro e2 w2 ⟨rfl, rfl⟩) | (go_at_call 57; refine (BY.out _).mono ?_; rintro e3 w3 ⟨rfl, hb3⟩))
  rw [rounds_succ]
  go_wp2_with (first | (go_at_call 55; with_reducible refine (A1.out _).mono ?_; rintro e1 w1 ⟨rfl, rfl⟩) | (go_at_call 55; with_reducible refine (A2.out _).mono ?_; rintro e1 w1 ⟨rfl, rfl⟩) | (go_at_call 55; with_reducible refine (A3.out _).mono ?_; rintro e1 w1 ⟨rfl, rfl⟩) | (go_at_call 56; refine (SC.out _).mono ?_; rintro e2 w2 ⟨rfl, rfl⟩) | (go_at_call 57; refine (BY.out _).mono ?_; rintro e3 w3 ⟨rfl, hb3⟩))
  rw [rounds_succ]
  go_wp2_with (first | (go_at_call 55; with_reducible refine (A1.out _).mono ?_; rintro e1 w1 ⟨rfl, rfl⟩) | (go_at_call 55; with_reducible refine (A2.out _).mono ?_; rintro e1 w1 ⟨rfl, rfl⟩) | (go_at_call 55; with_reducible refine (A3.out _).mono ?_; rintro e1 w1 ⟨rfl, rfl⟩) | (go_at_call 56; refine (SC.out _).mono ?_; rintro e2 w2 ⟨rfl, rfl⟩) | (go_at_call 57; refine (BY.out _).mono ?_; rintro e3 w3 ⟨rfl, hb3⟩))
  rw [rounds_succ]
  go_wp2_with (first | (go_at_call 55; with_reducible refine (A1.out _).mono ?_; rintro e1 w1 ⟨rfl, rfl⟩) | (go_at_call 55; with_reducible refine (A2.out _).mono ?_; rintro e1 w1 ⟨rfl, rfl⟩) | (go_at_call 55; with_reducible refine (A3.out _).mono ?_; rintro e1 w1 ⟨rfl, rfl⟩) | (go_at_call 56; refine (SC.out _).mono ?_; rintro e2 w2 ⟨rfl, rfl⟩) | (go_at_call 57; refine (BY.out _).mono ?_; rintro e3 w3 ⟨rfl, hb3⟩))
  go_ret2
  exact ⟨rfl, hb3⟩
end Go.Proofs.YtgjndekgnkjknaaDoor.pt
