/- Several texts in one. -/
import Derived.Test.YtiigknimfibdpaaGreatDoorPtA
import Derived.Lib.DecodeN
import Derived.Lib.MapLaws
import Derived.Deep.DrawnRows
namespace Go.Proofs.YtiigknimfibdpaaGreatDoor.pt
open Go.RowKit Go.Lib
set_option linter.unusedVariables false
/-- What goes on: six bits, or -1. -/
def mo (s : ByteArray) (i : Nat) : Int := if h : i < s.size then (if 128 ≤ s[i].toNat ∧ s[i].toNat ≤ 191 then (s[i].toNat : Int) - 128 else -1) else -1
theorem mo_any (s : ByteArray) (i k : Nat) (w : World) (hs : s.size ≤ 4000000000) : Calls Tryz.prog 79 #[.string s, .int .i64 ((i : Int) + (k : Int))] w fun x w' => x = .returned (.int .i32 (mo s (i + k))) ∧ w = w' := by
  have := more_any s (i + k) w hs
  rwa [Int.natCast_add] at this
theorem mo_range (s : ByteArray) (i : Nat) : mo s i = -1 ∨ (0 ≤ mo s i ∧ mo s i ≤ 63) := by
  unfold mo
  split
  · split
    · rename_i h; right; omega
    · left; rfl
  · left; rfl
theorem enc_size (q : Int) : (strOfNums (encodeRuneZ q)).size = (encodeRuneZ q).length := strOfNums_size _
set_option maxRecDepth 100000 in
theorem at_one (s : ByteArray) (i : Nat) (w : World) (hi : i < s.size) (hs : s.size ≤ 4000000000) (hc : s[i].toNat < 128) : Calls Tryz.prog 47 #[.string s, .int .i64 i] w fun x w' => x = .returned (.tuple #[.int .i32 s[i].toNat, .int .i64 1]) ∧ Below w.heap.size w w' := by
  go_enter Tryz.func47, Tryz.ntmps47
  go_wp2
  go_ret2
  exact ⟨rfl, Below.refl _ _⟩
set_option maxRecDepth 100000 in
theorem at_low (s : ByteArray) (i : Nat) (w : World) (hi : i < s.size) (hs : s.size ≤ 4000000000) (h1 : 128 ≤ s[i].toNat) (h2 : s[i].toNat < 192) : Calls Tryz.prog 47 #[.string s, .int .i64 i] w fun x w' => x = .returned (.tuple #[.int .i32 0, .int .i64 0]) ∧ Below w.heap.size w w' := by
  go_enter Tryz.func47, Tryz.ntmps47
  go_wp2
  go_ret2
  exact ⟨rfl, Below.refl _ _⟩
set_option maxRecDepth 100000 in
theorem at_high (s : ByteArray) (i : Nat) (w : World) (hi : i < s.size) (hs : s.size ≤ 4000000000) (h1 : 248 ≤ s[i].toNat) (h2 : s[i].toNat < 256) : Calls Tryz.prog 47 #[.string s, .int .i64 i] w fun x w' => x = .returned (.tuple #[.int .i32 0, .int .i64 0]) ∧ Below w.heap.size w w' := by
  go_enter Tryz.func47, Tryz.ntmps47
  go_wp2
  go_ret2
  exact ⟨rfl, Below.refl _ _⟩
set_option maxRecDepth 100000 in
set_option maxHeartbeats 1000000 in
theorem at_two_neg1 (s : ByteArray) (i : Nat) (w : World) (hi : i < s.size) (hs : s.size ≤ 4000000000) (h1 : 192 ≤ s[i].toNat) (h2 : s[i].toNat < 224) (e1 : mo s (i + 1) = -1) : Calls Tryz.prog 47 #[.string s, .int .i64 i] w fun x w' => x = .returned (.tuple #[.int .i32 0, .int .i64 0]) ∧ Below w.heap.size w w' := by
  have a1 : ∀ w2, Calls Tryz.prog 79 #[.string s, .int .i64 ((i : Int) + 1)] w2 fun x w' => x = .returned (.int .i32 (mo s (i + 1))) ∧ w2 = w' := fun w2 => mo_any s i 1 w2 hs
  rw [e1] at a1
  have A1 := Lib.hid a1
  clear a1 e1
  go_enter Tryz.func47, Tryz.ntmps47
  go_wp2_with fail
  refine wp_loop_rounds 1 ?_
  rw [rounds_succ]
  go_wp2_with (first | (go_at_call 79; with_reducible refine (A1.out _).mono ?_; rintro e1 w1 ⟨rfl, rfl⟩))
  go_ret2
  exact ⟨rfl, Below.refl _ _⟩
set_option maxRecDepth 100000 in
set_option maxHeartbeats 1000000 in
theorem at_two_len (s : ByteArray) (i : Nat) (w : World) (hi : i < s.size) (hs : s.size ≤ 4000000000) (h1 : 192 ≤ s[i].toNat) (h2 : s[i].toNat < 224) (m1 : Int) (e1 : mo s (i + 1) = m1) (l1 : 0 ≤ m1) (u1 : m1 ≤ 63) (hv : validRune (((s[i].toNat : Int) - 192) * 64 + m1) = true) (hl : (encodeRuneZ (((s[i].toNat : Int) - 192) * 64 + m1)).length ≠ 2) : Calls Tryz.prog 47 #[.string s, .int .i64 i] w fun x w' => x = .returned (.tuple #[.int .i32 0, .int .i64 0]) ∧ Below w.heap.size w w' := by
  have a1 : ∀ w2, Calls Tryz.prog 79 #[.string s, .int .i64 ((i : Int) + 1)] w2 fun x w' => x = .returned (.int .i32 (mo s (i + 1))) ∧ w2 = w' := fun w2 => mo_any s i 1 w2 hs
  rw [e1] at a1
  have A1 := Lib.hid a1
  have sc := fun w2 => refScalar_any (((s[i].toNat : Int) - 192) * 64 + m1) w2
  rw [hv] at sc
  have SC := Lib.hid sc
  have by' := fun w2 => bytes_any (((s[i].toNat : Int) - 192) * 64 + m1) w2 hv
  have sz : (strOfNums (encodeRuneZ (((s[i].toNat : Int) - 192) * 64 + m1))).size ≠ 2 := by rw [enc_size]; exact hl
  have sm : (strOfNums (encodeRuneZ (((s[i].toNat : Int) - 192) * 64 + m1))).size ≤ 4 := by rw [enc_size]; exact (encodeRuneZ_length _).2
  generalize strOfNums (encodeRuneZ (((s[i].toNat : Int) - 192) * 64 + m1)) = T at by' sz sm
  have BY := Lib.hid by'
  clear a1 e1 sc by' hv hl
  go_enter Tryz.func47, Tryz.ntmps47
  go_wp2_with fail
  refine wp_loop_rounds 2 ?_
  rw [rounds_succ]
  go_wp2_with (first | (go_at_call 79; with_reducible refine (A1.out _).mono ?_; rintro e1 w1 ⟨rfl, rfl⟩) | (go_at_call 80; refine (SC.out _).mono ?_; rintro e2 w2 ⟨rfl, rfl⟩) | (go_at_call 54; refine (BY.out _).mono ?_; rintro e3 w3 ⟨rfl, hb3⟩))
  rw [rounds_succ]
  go_wp2_with (first | (go_at_call 79; with_reducible refine (A1.out _).mono ?_; rintro e1 w1 ⟨rfl, rfl⟩) | (go_at_call 80; refine (SC.out _).mono ?_; rintro e2 w2 ⟨rfl, rfl⟩) | (go_at_call 54; refine (BY.out _).mono ?_; rintro e3 w3 ⟨rfl, hb3⟩))
  go_ret2
  exact ⟨rfl, hb3⟩
set_option maxRecDepth 100000 in
set_option maxHeartbeats 1000000 in
theorem at_two_ok (s : ByteArray) (i : Nat) (w : World) (hi : i < s.size) (hs : s.size ≤ 4000000000) (h1 : 192 ≤ s[i].toNat) (h2 : s[i].toNat < 224) (m1 : Int) (e1 : mo s (i + 1) = m1) (l1 : 0 ≤ m1) (u1 : m1 ≤ 63) (hv : validRune (((s[i].toNat : Int) - 192) * 64 + m1) = true) (hl : (encodeRuneZ (((s[i].toNat : Int) - 192) * 64 + m1)).length = 2) : Calls Tryz.prog 47 #[.string s, .int .i64 i] w fun x w' => x = .returned (.tuple #[.int .i32 (((s[i].toNat : Int) - 192) * 64 + m1), .int .i64 2]) ∧ Below w.heap.size w w' := by
  have a1 : ∀ w2, Calls Tryz.prog 79 #[.string s, .int .i64 ((i : Int) + 1)] w2 fun x w' => x = .returned (.int .i32 (mo s (i + 1))) ∧ w2 = w' := fun w2 => mo_any s i 1 w2 hs
  rw [e1] at a1
  have A1 := Lib.hid a1
  have sc := fun w2 => refScalar_any (((s[i].toNat : Int) - 192) * 64 + m1) w2
  rw [hv] at sc
  have SC := Lib.hid sc
  have by' := fun w2 => bytes_any (((s[i].toNat : Int) - 192) * 64 + m1) w2 hv
  have sz : (strOfNums (encodeRuneZ (((s[i].toNat : Int) - 192) * 64 + m1))).size = 2 := by rw [enc_size]; exact hl
  have sm : (strOfNums (encodeRuneZ (((s[i].toNat : Int) - 192) * 64 + m1))).size ≤ 4 := by rw [enc_size]; exact (encodeRuneZ_length _).2
  generalize strOfNums (encodeRuneZ (((s[i].toNat : Int) - 192) * 64 + m1)) = T at by' sz sm
  have BY := Lib.hid by'
  clear a1 e1 sc by' hv hl
  go_enter Tryz.func47, Tryz.ntmps47
  go_wp2_with fail
  refine wp_loop_rounds 2 ?_
  rw [rounds_succ]
  go_wp2_with (first | (go_at_call 79; with_reducible refine (A1.out _).mono ?_; rintro e1 w1 ⟨rfl, rfl⟩) | (go_at_call 80; refine (SC.out _).mono ?_; rintro e2 w2 ⟨rfl, rfl⟩) | (go_at_call 54; refine (BY.out _).mono ?_; rintro e3 w3 ⟨rfl, hb3⟩))
  rw [rounds_succ]
  go_wp2_with (first | (go_at_call 79; with_reducible refine (A1.out _).mono ?_; rintro e1 w1 ⟨rfl, rfl⟩) | (go_at_call 80; refine (SC.out _).mono ?_; rintro e2 w2 ⟨rfl, rfl⟩) | (go_at_call 54; refine (BY.out _).mono ?_; rintro e3 w3 ⟨rfl, hb3⟩))
  go_ret2
  exact ⟨rfl, hb3⟩
set_option maxRecDepth 100000 in
set_option maxHeartbeats 1000000 in
theorem at_three_neg1 (s : ByteArray) (i : Nat) (w : World) (hi : i < s.size) (hs : s.size ≤ 4000000000) (h1 : 224 ≤ s[i].toNat) (h2 : s[i].toNat < 240) (e1 : mo s (i + 1) = -1) : Calls Tryz.prog 47 #[.string s, .int .i64 i] w fun x w' => x = .returned (.tuple #[.int .i32 0, .int .i64 0]) ∧ Below w.heap.size w w' := by
  have a1 : ∀ w2, Calls Tryz.prog 79 #[.string s, .int .i64 ((i : Int) + 1)] w2 fun x w' => x = .returned (.int .i32 (mo s (i + 1))) ∧ w2 = w' := fun w2 => mo_any s i 1 w2 hs
  rw [e1] at a1
  have A1 := Lib.hid a1
  clear a1 e1
  go_enter Tryz.func47, Tryz.ntmps47
  go_wp2_with fail
  refine wp_loop_rounds 1 ?_
  rw [rounds_succ]
  go_wp2_with (first | (go_at_call 79; with_reducible refine (A1.out _).mono ?_; rintro e1 w1 ⟨rfl, rfl⟩))
  go_ret2
  exact ⟨rfl, Below.refl _ _⟩
set_option maxRecDepth 100000 in
set_option maxHeartbeats 1000000 in
theorem at_three_neg2 (s : ByteArray) (i : Nat) (w : World) (hi : i < s.size) (hs : s.size ≤ 4000000000) (h1 : 224 ≤ s[i].toNat) (h2 : s[i].toNat < 240) (m1 : Int) (e1 : mo s (i + 1) = m1) (l1 : 0 ≤ m1) (u1 : m1 ≤ 63) (e2 : mo s (i + 2) = -1) : Calls Tryz.prog 47 #[.string s, .int .i64 i] w fun x w' => x = .returned (.tuple #[.int .i32 0, .int .i64 0]) ∧ Below w.heap.size w w' := by
  have a1 : ∀ w2, Calls Tryz.prog 79 #[.string s, .int .i64 ((i : Int) + 1)] w2 fun x w' => x = .returned (.int .i32 (mo s (i + 1))) ∧ w2 = w' := fun w2 => mo_any s i 1 w2 hs
  rw [e1] at a1
  have A1 := Lib.hid a1
  have a2 : ∀ w2, Calls Tryz.prog 79 #[.string s, .int .i64 ((i : Int) + 2)] w2 fun x w' => x = .returned (.int .i32 (mo s (i + 2))) ∧ w2 = w' := fun w2 => mo_any s i 2 w2 hs
  rw [e2] at a2
  have A2 := Lib.hid a2
  clear a1 e1 a2 e2
  go_enter Tryz.func47, Tryz.ntmps47
  go_wp2_with fail
  refine wp_loop_rounds 2 ?_
  rw [rounds_succ]
  go_wp2_with (first | (go_at_call 79; with_reducible refine (A1.out _).mono ?_; rintro e1 w1 ⟨rfl, rfl⟩) | (go_at_call 79; with_reducible refine (A2.out _).mono ?_; rintro e1 w1 ⟨rfl, rfl⟩))
  rw [rounds_succ]
  go_wp2_with (first | (go_at_call 79; with_reducible refine (A1.out _).mono ?_; rintro e1 w1 ⟨rfl, rfl⟩) | (go_at_call 79; with_reducible refine (A2.out _).mono ?_; rintro e1 w1 ⟨rfl, rfl⟩))
  go_ret2
  exact ⟨rfl, Below.refl _ _⟩
set_option maxRecDepth 100000 in
set_option maxHeartbeats 1000000 in
theorem at_three_bad (s : ByteArray) (i : Nat) (w : World) (hi : i < s.size) (hs : s.size ≤ 4000000000) (h1 : 224 ≤ s[i].toNat) (h2 : s[i].toNat < 240) (m1 : Int) (e1 : mo s (i + 1) = m1) (l1 : 0 ≤ m1) (u1 : m1 ≤ 63) (m2 : Int) (e2 : mo s (i + 2) = m2) (l2 : 0 ≤ m2) (u2 : m2 ≤ 63) (hv : validRune ((((s[i].toNat : Int) - 224) * 64 + m1) * 64 + m2) = false) : Calls Tryz.prog 47 #[.string s, .int .i64 i] w fun x w' => x = .returned (.tuple #[.int .i32 0, .int .i64 0]) ∧ Below w.heap.size w w' := by
  have a1 : ∀ w2, Calls Tryz.prog 79 #[.string s, .int .i64 ((i : Int) + 1)] w2 fun x w' => x = .returned (.int .i32 (mo s (i + 1))) ∧ w2 = w' := fun w2 => mo_any s i 1 w2 hs
  rw [e1] at a1
  have A1 := Lib.hid a1
  have a2 : ∀ w2, Calls Tryz.prog 79 #[.string s, .int .i64 ((i : Int) + 2)] w2 fun x w' => x = .returned (.int .i32 (mo s (i + 2))) ∧ w2 = w' := fun w2 => mo_any s i 2 w2 hs
  rw [e2] at a2
  have A2 := Lib.hid a2
  have sc := fun w2 => refScalar_any ((((s[i].toNat : Int) - 224) * 64 + m1) * 64 + m2) w2
  rw [hv] at sc
  have SC := Lib.hid sc
  clear a1 e1 a2 e2 sc hv
  go_enter Tryz.func47, Tryz.ntmps47
  go_wp2_with fail
  refine wp_loop_rounds 3 ?_
  rw [rounds_succ]
  go_wp2_with (first | (go_at_call 79; with_reducible refine (A1.out _).mono ?_; rintro e1 w1 ⟨rfl, rfl⟩) | (go_at_call 79; with_reducible refine (A2.out _).mono ?_; rintro e1 w1 ⟨rfl, rfl⟩) | (go_at_call 80; refine (SC.out _).mono ?_; rintro e2 w2 ⟨rfl, rfl⟩))
  rw [rounds_succ]
  go_wp2_with (first | (go_at_call 79; with_reducible refine (A1.out _).mono ?_; rintro e1 w1 ⟨rfl, rfl⟩) | (go_at_call 79; with_reducible refine (A2.out _).mono ?_; rintro e1 w1 ⟨rfl, rfl⟩) | (go_at_call 80; refine (SC.out _).mono ?_; rintro e2 w2 ⟨rfl, rfl⟩))
  rw [rounds_succ]
  go_wp2_with (first | (go_at_call 79; with_reducible refine (A1.out _).mono ?_; rintro e1 w1 ⟨rfl, rfl⟩) | (go_at_call 79; with_reducible refine (A2.out _).mono ?_; rintro e1 w1 ⟨rfl, rfl⟩) | (go_at_call 80; refine (SC.out _).mono ?_; rintro e2 w2 ⟨rfl, rfl⟩))
  go_ret2
  exact ⟨rfl, Below.refl _ _⟩
set_option maxRecDepth 100000 in
set_option maxHeartbeats 1000000 in
theorem at_three_len (s : ByteArray) (i : Nat) (w : World) (hi : i < s.size) (hs : s.size ≤ 4000000000) (h1 : 224 ≤ s[i].toNat) (h2 : s[i].toNat < 240) (m1 : Int) (e1 : mo s (i + 1) = m1) (l1 : 0 ≤ m1) (u1 : m1 ≤ 63) (m2 : Int) (e2 : mo s (i + 2) = m2) (l2 : 0 ≤ m2) (u2 : m2 ≤ 63) (hv : validRune ((((s[i].toNat : Int) - 224) * 64 + m1) * 64 + m2) = true) (hl : (encodeRuneZ ((((s[i].toNat : Int) - 224) * 64 + m1) * 64 + m2)).length ≠ 3) : Calls Tryz.prog 47 #[.string s, .int .i64 i] w fun x w' => x = .returned (.tuple #[.int .i32 0, .int .i64 0]) ∧ Below w.heap.size w w' := by
  have a1 : ∀ w2, Calls Tryz.prog 79 #[.string s, .int .i64 ((i : Int) + 1)] w2 fun x w' => x = .returned (.int .i32 (mo s (i + 1))) ∧ w2 = w' := fun w2 => mo_any s i 1 w2 hs
  rw [e1] at a1
  have A1 := Lib.hid a1
  have a2 : ∀ w2, Calls Tryz.prog 79 #[.string s, .int .i64 ((i : Int) + 2)] w2 fun x w' => x = .returned (.int .i32 (mo s (i + 2))) ∧ w2 = w' := fun w2 => mo_any s i 2 w2 hs
  rw [e2] at a2
  have A2 := Lib.hid a2
  have sc := fun w2 => refScalar_any ((((s[i].toNat : Int) - 224) * 64 + m1) * 64 + m2) w2
  rw [hv] at sc
  have SC := Lib.hid sc
  have by' := fun w2 => bytes_any ((((s[i].toNat : Int) - 224) * 64 + m1) * 64 + m2) w2 hv
  have sz : (strOfNums (encodeRuneZ ((((s[i].toNat : Int) - 224) * 64 + m1) * 64 + m2))).size ≠ 3 := by rw [enc_size]; exact hl
  have sm : (strOfNums (encodeRuneZ ((((s[i].toNat : Int) - 224) * 64 + m1) * 64 + m2))).size ≤ 4 := by rw [enc_size]; exact (encodeRuneZ_length _).2
  generalize strOfNums (encodeRuneZ ((((s[i].toNat : Int) - 224) * 64 + m1) * 64 + m2)) = T at by' sz sm
  have BY := Lib.hid by'
  clear a1 e1 a2 e2 sc by' hv hl
  go_enter Tryz.func47, Tryz.ntmps47
  go_wp2_with fail
  refine wp_loop_rounds 3 ?_
  rw [rounds_succ]
  go_wp2_with (first | (go_at_call 79; with_reducible refine (A1.out _).mono ?_; rintro e1 w1 ⟨rfl, rfl⟩) | (go_at_call 79; with_reducible refine (A2.out _).mono ?_; rintro e1 w1 ⟨rfl, rfl⟩) | (go_at_call 80; refine (SC.out _).mono ?_; rintro e2 w2 ⟨rfl, rfl⟩) | (go_at_call 54; refine (BY.out _).mono ?_; rintro e3 w3 ⟨rfl, hb3⟩))
  rw [rounds_succ]
  go_wp2_with (first | (go_at_call 79; with_reducible refine (A1.out _).mono ?_; rintro e1 w1 ⟨rfl, rfl⟩) | (go_at_call 79; with_reducible refine (A2.out _).mono ?_; rintro e1 w1 ⟨rfl, rfl⟩) | (go_at_call 80; refine (SC.out _).mono ?_; rintro e2 w2 ⟨rfl, rfl⟩) | (go_at_call 54; refine (BY.out _).mono ?_; rintro e3 w3 ⟨rfl, hb3⟩))
  rw [rounds_succ]
  go_wp2_with (first | (go_at_call 79; with_reducible refine (A1.out _).mono ?_; rintro e1 w1 ⟨rfl, rfl⟩) | (go_at_call 79; with_reducible refine (A2.out _).mono ?_; rintro e1 w1 ⟨rfl, rfl⟩) | (go_at_call 80; refine (SC.out _).mono ?_; rintro e2 w2 ⟨rfl, rfl⟩) | (go_at_call 54; refine (BY.out _).mono ?_; rintro e3 w3 ⟨rfl, hb3⟩))
  go_ret2
  exact ⟨rfl, hb3⟩
set_option maxRecDepth 100000 in
set_option maxHeartbeats 1000000 in
theorem at_three_ok (s : ByteArray) (i : Nat) (w : World) (hi : i < s.size) (hs : s.size ≤ 4000000000) (h1 : 224 ≤ s[i].toNat) (h2 : s[i].toNat < 240) (m1 : Int) (e1 : mo s (i + 1) = m1) (l1 : 0 ≤ m1) (u1 : m1 ≤ 63) (m2 : Int) (e2 : mo s (i + 2) = m2) (l2 : 0 ≤ m2) (u2 : m2 ≤ 63) (hv : validRune ((((s[i].toNat : Int) - 224) * 64 + m1) * 64 + m2) = true) (hl : (encodeRuneZ ((((s[i].toNat : Int) - 224) * 64 + m1) * 64 + m2)).length = 3) : Calls Tryz.prog 47 #[.string s, .int .i64 i] w fun x w' => x = .returned (.tuple #[.int .i32 ((((s[i].toNat : Int) - 224) * 64 + m1) * 64 + m2), .int .i64 3]) ∧ Below w.heap.size w w' := by
  have a1 : ∀ w2, Calls Tryz.prog 79 #[.string s, .int .i64 ((i : Int) + 1)] w2 fun x w' => x = .returned (.int .i32 (mo s (i + 1))) ∧ w2 = w' := fun w2 => mo_any s i 1 w2 hs
  rw [e1] at a1
  have A1 := Lib.hid a1
  have a2 : ∀ w2, Calls Tryz.prog 79 #[.string s, .int .i64 ((i : Int) + 2)] w2 fun x w' => x = .returned (.int .i32 (mo s (i + 2))) ∧ w2 = w' := fun w2 => mo_any s i 2 w2 hs
  rw [e2] at a2
  have A2 := Lib.hid a2
  have sc := fun w2 => refScalar_any ((((s[i].toNat : Int) - 224) * 64 + m1) * 64 + m2) w2
  rw [hv] at sc
  have SC := Lib.hid sc
  have by' := fun w2 => bytes_any ((((s[i].toNat : Int) - 224) * 64 + m1) * 64 + m2) w2 hv
  have sz : (strOfNums (encodeRuneZ ((((s[i].toNat : Int) - 224) * 64 + m1) * 64 + m2))).size = 3 := by rw [enc_size]; exact hl
  have sm : (strOfNums (encodeRuneZ ((((s[i].toNat : Int) - 224) * 64 + m1) * 64 + m2))).size ≤ 4 := by rw [enc_size]; exact (encodeRuneZ_length _).2
  generalize strOfNums (encodeRuneZ ((((s[i].toNat : Int) - 224) * 64 + m1) * 64 + m2)) = T at by' sz sm
  have BY := Lib.hid by'
  clear a1 e1 a2 e2 sc by' hv hl
  go_enter Tryz.func47, Tryz.ntmps47
  go_wp2_with fail
  refine wp_loop_rounds 3 ?_
  rw [rounds_succ]
  go_wp2_with (first | (go_at_call 79; with_reducible refine (A1.out _).mono ?_; rintro e1 w1 ⟨rfl, rfl⟩) | (go_at_call 79; with_reducible refine (A2.out _).mono ?_; rintro e1 w1 ⟨rfl, rfl⟩) | (go_at_call 80; refine (SC.out _).mono ?_; rintro e2 w2 ⟨rfl, rfl⟩) | (go_at_call 54; refine (BY.out _).mono ?_; rintro e3 w3 ⟨rfl, hb3⟩))
  rw [rounds_succ]
  go_wp2_with (first | (go_at_call 79; with_reducible refine (A1.out _).mono ?_; rintro e1 w1 ⟨rfl, rfl⟩) | (go_at_call 79; with_reducible refine (A2.out _).mono ?_; rintro e1 w1 ⟨rfl, rfl⟩) | (go_at_call 80; refine (SC.out _).mono ?_; rintro e2 w2 ⟨rfl, rfl⟩) | (go_at_call 54; refine (BY.out _).mono ?_; rintro e3 w3 ⟨rfl, hb3⟩))
  rw [rounds_succ]
  go_wp2_with (first | (go_at_call 79; with_reducible refine (A1.out _).mono ?_; rintro e1 w1 ⟨rfl, rfl⟩) | (go_at_call 79; with_reducible refine (A2.out _).mono ?_; rintro e1 w1 ⟨rfl, rfl⟩) | (go_at_call 80; refine (SC.out _).mono ?_; rintro e2 w2 ⟨rfl, rfl⟩) | (go_at_call 54; refine (BY.out _).mono ?_; rintro e3 w3 ⟨rfl, hb3⟩))
  go_ret2
  exact ⟨rfl, hb3⟩
set_option maxRecDepth 100000 in
set_option maxHeartbeats 1000000 in
theorem at_four_neg1 (s : ByteArray) (i : Nat) (w : World) (hi : i < s.size) (hs : s.size ≤ 4000000000) (h1 : 240 ≤ s[i].toNat) (h2 : s[i].toNat < 248) (e1 : mo s (i + 1) = -1) : Calls Tryz.prog 47 #[.string s, .int .i64 i] w fun x w' => x = .returned (.tuple #[.int .i32 0, .int .i64 0]) ∧ Below w.heap.size w w' := by
  have a1 : ∀ w2, Calls Tryz.prog 79 #[.string s, .int .i64 ((i : Int) + 1)] w2 fun x w' => x = .returned (.int .i32 (mo s (i + 1))) ∧ w2 = w' := fun w2 => mo_any s i 1 w2 hs
  rw [e1] at a1
  have A1 := Lib.hid a1
  clear a1 e1
  go_enter Tryz.func47, Tryz.ntmps47
  go_wp2_with fail
  refine wp_loop_rounds 1 ?_
  rw [rounds_succ]
  go_wp2_with (first | (go_at_call 79; with_reducible refine (A1.out _).mono ?_; rintro e1 w1 ⟨rfl, rfl⟩))
  go_ret2
  exact ⟨rfl, Below.refl _ _⟩
set_option maxRecDepth 100000 in
set_option maxHeartbeats 1000000 in
theorem at_four_neg2 (s : ByteArray) (i : Nat) (w : World) (hi : i < s.size) (hs : s.size ≤ 4000000000) (h1 : 240 ≤ s[i].toNat) (h2 : s[i].toNat < 248) (m1 : Int) (e1 : mo s (i + 1) = m1) (l1 : 0 ≤ m1) (u1 : m1 ≤ 63) (e2 : mo s (i + 2) = -1) : Calls Tryz.prog 47 #[.string s, .int .i64 i] w fun x w' => x = .returned (.tuple #[.int .i32 0, .int .i64 0]) ∧ Below w.heap.size w w' := by
  have a1 : ∀ w2, Calls Tryz.prog 79 #[.string s, .int .i64 ((i : Int) + 1)] w2 fun x w' => x = .returned (.int .i32 (mo s (i + 1))) ∧ w2 = w' := fun w2 => mo_any s i 1 w2 hs
  rw [e1] at a1
  have A1 := Lib.hid a1
  have a2 : ∀ w2, Calls Tryz.prog 79 #[.string s, .int .i64 ((i : Int) + 2)] w2 fun x w' => x = .returned (.int .i32 (mo s (i + 2))) ∧ w2 = w' := fun w2 => mo_any s i 2 w2 hs
  rw [e2] at a2
  have A2 := Lib.hid a2
  clear a1 e1 a2 e2
  go_enter Tryz.func47, Tryz.ntmps47
  go_wp2_with fail
  refine wp_loop_rounds 2 ?_
  rw [rounds_succ]
  go_wp2_with (first | (go_at_call 79; with_reducible refine (A1.out _).mono ?_; rintro e1 w1 ⟨rfl, rfl⟩) | (go_at_call 79; with_reducible refine (A2.out _).mono ?_; rintro e1 w1 ⟨rfl, rfl⟩))
  rw [rounds_succ]
  go_wp2_with (first | (go_at_call 79; with_reducible refine (A1.out _).mono ?_; rintro e1 w1 ⟨rfl, rfl⟩) | (go_at_call 79; with_reducible refine (A2.out _).mono ?_; rintro e1 w1 ⟨rfl, rfl⟩))
  go_ret2
  exact ⟨rfl, Below.refl _ _⟩
set_option maxRecDepth 100000 in
set_option maxHeartbeats 1000000 in
theorem at_four_neg3 (s : ByteArray) (i : Nat) (w : World) (hi : i < s.size) (hs : s.size ≤ 4000000000) (h1 : 240 ≤ s[i].toNat) (h2 : s[i].toNat < 248) (m1 : Int) (e1 : mo s (i + 1) = m1) (l1 : 0 ≤ m1) (u1 : m1 ≤ 63) (m2 : Int) (e2 : mo s (i + 2) = m2) (l2 : 0 ≤ m2) (u2 : m2 ≤ 63) (e3 : mo s (i + 3) = -1) : Calls Tryz.prog 47 #[.string s, .int .i64 i] w fun x w' => x = .returned (.tuple #[.int .i32 0, .int .i64 0]) ∧ Below w.heap.size w w' := by
  have a1 : ∀ w2, Calls Tryz.prog 79 #[.string s, .int .i64 ((i : Int) + 1)] w2 fun x w' => x = .returned (.int .i32 (mo s (i + 1))) ∧ w2 = w' := fun w2 => mo_any s i 1 w2 hs
  rw [e1] at a1
  have A1 := Lib.hid a1
  have a2 : ∀ w2, Calls Tryz.prog 79 #[.string s, .int .i64 ((i : Int) + 2)] w2 fun x w' => x = .returned (.int .i32 (mo s (i + 2))) ∧ w2 = w' := fun w2 => mo_any s i 2 w2 hs
  rw [e2] at a2
  have A2 := Lib.hid a2
  have a3 : ∀ w2, Calls Tryz.prog 79 #[.string s, .int .i64 ((i : Int) + 3)] w2 fun x w' => x = .returned (.int .i32 (mo s (i + 3))) ∧ w2 = w' := fun w2 => mo_any s i 3 w2 hs
  rw [e3] at a3
  have A3 := Lib.hid a3
  clear a1 e1 a2 e2 a3 e3
  go_enter Tryz.func47, Tryz.ntmps47
  go_wp2_with fail
  refine wp_loop_rounds 3 ?_
  rw [rounds_succ]
  go_wp2_with (first | (go_at_call 79; with_reducible refine (A1.out _).mono ?_; rintro e1 w1 ⟨rfl, rfl⟩) | (go_at_call 79; with_reducible refine (A2.out _).mono ?_; rintro e1 w1 ⟨rfl, rfl⟩) | (go_at_call 79; with_reducible refine (A3.out _).mono ?_; rintro e1 w1 ⟨rfl, rfl⟩))
  rw [rounds_succ]
  go_wp2_with (first | (go_at_call 79; with_reducible refine (A1.out _).mono ?_; rintro e1 w1 ⟨rfl, rfl⟩) | (go_at_call 79; with_reducible refine (A2.out _).mono ?_; rintro e1 w1 ⟨rfl, rfl⟩) | (go_at_call 79; with_reducible refine (A3.out _).mono ?_; rintro e1 w1 ⟨rfl, rfl⟩))
  rw [rounds_succ]
  go_wp2_with (first | (go_at_call 79; with_reducible refine (A1.out _).mono ?_; rintro e1 w1 ⟨rfl, rfl⟩) | (go_at_call 79; with_reducible refine (A2.out _).mono ?_; rintro e1 w1 ⟨rfl, rfl⟩) | (go_at_call 79; with_reducible refine (A3.out _).mono ?_; rintro e1 w1 ⟨rfl, rfl⟩))
  go_ret2
  exact ⟨rfl, Below.refl _ _⟩
set_option maxRecDepth 100000 in
set_option maxHeartbeats 1000000 in
theorem at_four_bad (s : ByteArray) (i : Nat) (w : World) (hi : i < s.size) (hs : s.size ≤ 4000000000) (h1 : 240 ≤ s[i].toNat) (h2 : s[i].toNat < 248) (m1 : Int) (e1 : mo s (i + 1) = m1) (l1 : 0 ≤ m1) (u1 : m1 ≤ 63) (m2 : Int) (e2 : mo s (i + 2) = m2) (l2 : 0 ≤ m2) (u2 : m2 ≤ 63) (m3 : Int) (e3 : mo s (i + 3) = m3) (l3 : 0 ≤ m3) (u3 : m3 ≤ 63) (hv : validRune (((((s[i].toNat : Int) - 240) * 64 + m1) * 64 + m2) * 64 + m3) = false) : Calls Tryz.prog 47 #[.string s, .int .i64 i] w fun x w' => x = .returned (.tuple #[.int .i32 0, .int .i64 0]) ∧ Below w.heap.size w w' := by
  have a1 : ∀ w2, Calls Tryz.prog 79 #[.string s, .int .i64 ((i : Int) + 1)] w2 fun x w' => x = .returned (.int .i32 (mo s (i + 1))) ∧ w2 = w' := fun w2 => mo_any s i 1 w2 hs
  rw [e1] at a1
  have A1 := Lib.hid a1
  have a2 : ∀ w2, Calls Tryz.prog 79 #[.string s, .int .i64 ((i : Int) + 2)] w2 fun x w' => x = .returned (.int .i32 (mo s (i + 2))) ∧ w2 = w' := fun w2 => mo_any s i 2 w2 hs
  rw [e2] at a2
  have A2 := Lib.hid a2
  have a3 : ∀ w2, Calls Tryz.prog 79 #[.string s, .int .i64 ((i : Int) + 3)] w2 fun x w' => x = .returned (.int .i32 (mo s (i + 3))) ∧ w2 = w' := fun w2 => mo_any s i 3 w2 hs
  rw [e3] at a3
  have A3 := Lib.hid a3
  have sc := fun w2 => refScalar_any (((((s[i].toNat : Int) - 240) * 64 + m1) * 64 + m2) * 64 + m3) w2
  rw [hv] at sc
  have SC := Lib.hid sc
  clear a1 e1 a2 e2 a3 e3 sc hv
  go_enter Tryz.func47, Tryz.ntmps47
  go_wp2_with fail
  refine wp_loop_rounds 4 ?_
  rw [rounds_succ]
  go_wp2_with (first | (go_at_call 79; with_reducible refine (A1.out _).mono ?_; rintro e1 w1 ⟨rfl, rfl⟩) | (go_at_call 79; with_reducible refine (A2.out _).mono ?_; rintro e1 w1 ⟨rfl, rfl⟩) | (go_at_call 79; with_reducible refine (A3.out _).mono ?_; rintro e1 w1 ⟨rfl, rfl⟩) | (go_at_call 80; refine (SC.out _).mono ?_; rintro e2 w2 ⟨rfl, rfl⟩))
  rw [rounds_succ]
  go_wp2_with (first | (go_at_call 79; with_reducible refine (A1.out _).mono ?_; rintro e1 w1 ⟨rfl, rfl⟩) | (go_at_call 79; with_reducible refine (A2.out _).mono ?_; rintro e1 w1 ⟨rfl, rfl⟩) | (go_at_call 79; with_reducible refine (A3.out _).mono ?_; rintro e1 w1 ⟨rfl, rfl⟩) | (go_at_call 80; refine (SC.out _).mono ?_; rintro e2 w2 ⟨rfl, rfl⟩))
  rw [rounds_succ]
  go_wp2_with (first | (go_at_call 79; with_reducible refine (A1.out _).mono ?_; rintro e1 w1 ⟨rfl, rfl⟩) | (go_at_call 79; with_reducible refine (A2.out _).mono ?_; rintro e1 w1 ⟨rfl, rfl⟩) | (go_at_call 79; with_reducible refine (A3.out _).mono ?_; rintro e1 w1 ⟨rfl, rfl⟩) | (go_at_call 80; refine (SC.out _).mono ?_; rintro e2 w2 ⟨rfl, rfl⟩))
  rw [rounds_succ]
  go_wp2_with (first | (go_at_call 79; with_reducible refine (A1.out _).mono ?_; rintro e1 w1 ⟨rfl, rfl⟩) | (go_at_call 79; with_reducible refine (A2.out _).mono ?_; rintro e1 w1 ⟨rfl, rfl⟩) | (go_at_call 79; with_reducible refine (A3.out _).mono ?_; rintro e1 w1 ⟨rfl, rfl⟩) | (go_at_call 80; refine (SC.out _).mono ?_; rintro e2 w2 ⟨rfl, rfl⟩))
  go_ret2
  exact ⟨rfl, Below.refl _ _⟩
set_option maxRecDepth 100000 in
set_option maxHeartbeats 1000000 in
theorem at_four_len (s : ByteArray) (i : Nat) (w : World) (hi : i < s.size) (hs : s.size ≤ 4000000000) (h1 : 240 ≤ s[i].toNat) (h2 : s[i].toNat < 248) (m1 : Int) (e1 : mo s (i + 1) = m1) (l1 : 0 ≤ m1) (u1 : m1 ≤ 63) (m2 : Int) (e2 : mo s (i + 2) = m2) (l2 : 0 ≤ m2) (u2 : m2 ≤ 63) (m3 : Int) (e3 : mo s (i + 3) = m3) (l3 : 0 ≤ m3) (u3 : m3 ≤ 63) (hv : validRune (((((s[i].toNat : Int) - 240) * 64 + m1) * 64 + m2) * 64 + m3) = true) (hl : (encodeRuneZ (((((s[i].toNat : Int) - 240) * 64 + m1) * 64 + m2) * 64 + m3)).length ≠ 4) : Calls Tryz.prog 47 #[.string s, .int .i64 i] w fun x w' => x = .returned (.tuple #[.int .i32 0, .int .i64 0]) ∧ Below w.heap.size w w' := by
  have a1 : ∀ w2, Calls Tryz.prog 79 #[.string s, .int .i64 ((i : Int) + 1)] w2 fun x w' => x = .returned (.int .i32 (mo s (i + 1))) ∧ w2 = w' := fun w2 => mo_any s i 1 w2 hs
  rw [e1] at a1
  have A1 := Lib.hid a1
  have a2 : ∀ w2, Calls Tryz.prog 79 #[.string s, .int .i64 ((i : Int) + 2)] w2 fun x w' => x = .returned (.int .i32 (mo s (i + 2))) ∧ w2 = w' := fun w2 => mo_any s i 2 w2 hs
  rw [e2] at a2
  have A2 := Lib.hid a2
  have a3 : ∀ w2, Calls Tryz.prog 79 #[.string s, .int .i64 ((i : Int) + 3)] w2 fun x w' => x = .returned (.int .i32 (mo s (i + 3))) ∧ w2 = w' := fun w2 => mo_any s i 3 w2 hs
  rw [e3] at a3
  have A3 := Lib.hid a3
  have sc := fun w2 => refScalar_any (((((s[i].toNat : Int) - 240) * 64 + m1) * 64 + m2) * 64 + m3) w2
  rw [hv] at sc
  have SC := Lib.hid sc
  have by' := fun w2 => bytes_any (((((s[i].toNat : Int) - 240) * 64 + m1) * 64 + m2) * 64 + m3) w2 hv
  have sz : (strOfNums (encodeRuneZ (((((s[i].toNat : Int) - 240) * 64 + m1) * 64 + m2) * 64 + m3))).size ≠ 4 := by rw [enc_size]; exact hl
  have sm : (strOfNums (encodeRuneZ (((((s[i].toNat : Int) - 240) * 64 + m1) * 64 + m2) * 64 + m3))).size ≤ 4 := by rw [enc_size]; exact (encodeRuneZ_length _).2
  generalize strOfNums (encodeRuneZ (((((s[i].toNat : Int) - 240) * 64 + m1) * 64 + m2) * 64 + m3)) = T at by' sz sm
  have BY := Lib.hid by'
  clear a1 e1 a2 e2 a3 e3 sc by' hv hl
  go_enter Tryz.func47, Tryz.ntmps47
  go_wp2_with fail
  refine wp_loop_rounds 4 ?_
  rw [rounds_succ]
  go_wp2_with (first | (go_at_call 79; with_reducible refine (A1.out _).mono ?_; rintro e1 w1 ⟨rfl, rfl⟩) | (go_at_call 79; with_reducible refine (A2.out _).mono ?_; rintro e1 w1 ⟨rfl, rfl⟩) | (go_at_call 79; with_reducible refine (A3.out _).mono ?_; rintro e1 w1 ⟨rfl, rfl⟩) | (go_at_call 80; refine (SC.out _).mono ?_; rintro e2 w2 ⟨rfl, rfl⟩) | (go_at_call 54; refine (BY.out _).mono ?_; rintro e3 w3 ⟨rfl, hb3⟩))
  rw [rounds_succ]
  go_wp2_with (first | (go_at_call 79; with_reducible refine (A1.out _).mono ?_; rintro e1 w1 ⟨rfl, rfl⟩) | (go_at_call 79; with_reducible refine (A2.out _).mono ?_; rintro e1 w1 ⟨rfl, rfl⟩) | (go_at_call 79; with_reducible refine (A3.out _).mono ?_; rintro e1 w1 ⟨rfl, rfl⟩) | (go_at_call 80; refine (SC.out _).mono ?_; rintro e2 w2 ⟨rfl, rfl⟩) | (go_at_call 54; refine (BY.out _).mono ?_; rintro e3 w3 ⟨rfl, hb3⟩))
  rw [rounds_succ]
  go_wp2_with (first | (go_at_call 79; with_reducible refine (A1.out _).mono ?_; rintro e1 w1 ⟨rfl, rfl⟩) | (go_at_call 79; with_reducible refine (A2.out _).mono ?_; rintro e1 w1 ⟨rfl, rfl⟩) | (go_at_call 79; with_reducible refine (A3.out _).mono ?_; rintro e1 w1 ⟨rfl, rfl⟩) | (go_at_call 80; refine (SC.out _).mono ?_; rintro e2 w2 ⟨rfl, rfl⟩) | (go_at_call 54; refine (BY.out _).mono ?_; rintro e3 w3 ⟨rfl, hb3⟩))
  rw [rounds_succ]
  go_wp2_with (first | (go_at_call 79; with_reducible refine (A1.out _).mono ?_; rintro e1 w1 ⟨rfl, rfl⟩) | (go_at_call 79; with_reducible refine (A2.out _).mono ?_; rintro e1 w1 ⟨rfl, rfl⟩) | (go_at_call 79; with_reducible refine (A3.out _).mono ?_; rintro e1 w1 ⟨rfl, rfl⟩) | (go_at_call 80; refine (SC.out _).mono ?_; rintro e2 w2 ⟨rfl, rfl⟩) | (go_at_call 54; refine (BY.out _).mono ?_; rintro e3 w3 ⟨rfl, hb3⟩))
  go_ret2
  exact ⟨rfl, hb3⟩
set_option maxRecDepth 100000 in
set_option maxHeartbeats 1000000 in
theorem at_four_ok (s : ByteArray) (i : Nat) (w : World) (hi : i < s.size) (hs : s.size ≤ 4000000000) (h1 : 240 ≤ s[i].toNat) (h2 : s[i].toNat < 248) (m1 : Int) (e1 : mo s (i + 1) = m1) (l1 : 0 ≤ m1) (u1 : m1 ≤ 63) (m2 : Int) (e2 : mo s (i + 2) = m2) (l2 : 0 ≤ m2) (u2 : m2 ≤ 63) (m3 : Int) (e3 : mo s (i + 3) = m3) (l3 : 0 ≤ m3) (u3 : m3 ≤ 63) (hv : validRune (((((s[i].toNat : Int) - 240) * 64 + m1) * 64 + m2) * 64 + m3) = true) (hl : (encodeRuneZ (((((s[i].toNat : Int) - 240) * 64 + m1) * 64 + m2) * 64 + m3)).length = 4) : Calls Tryz.prog 47 #[.string s, .int .i64 i] w fun x w' => x = .returned (.tuple #[.int .i32 (((((s[i].toNat : Int) - 240) * 64 + m1) * 64 + m2) * 64 + m3), .int .i64 4]) ∧ Below w.heap.size w w' := by
  have a1 : ∀ w2, Calls Tryz.prog 79 #[.string s, .int .i64 ((i : Int) + 1)] w2 fun x w' => x = .returned (.int .i32 (mo s (i + 1))) ∧ w2 = w' := fun w2 => mo_any s i 1 w2 hs
  rw [e1] at a1
  have A1 := Lib.hid a1
  have a2 : ∀ w2, Calls Tryz.prog 79 #[.string s, .int .i64 ((i : Int) + 2)] w2 fun x w' => x = .returned (.int .i32 (mo s (i + 2))) ∧ w2 = w' := fun w2 => mo_any s i 2 w2 hs
  rw [e2] at a2
  have A2 := Lib.hid a2
  have a3 : ∀ w2, Calls Tryz.prog 79 #[.string s, .int .i64 ((i : Int) + 3)] w2 fun x w' => x = .returned (.int .i32 (mo s (i + 3))) ∧ w2 = w' := fun w2 => mo_any s i 3 w2 hs
  rw [e3] at a3
  have A3 := Lib.hid a3
  have sc := fun w2 => refScalar_any (((((s[i].toNat : Int) - 240) * 64 + m1) * 64 + m2) * 64 + m3) w2
  rw [hv] at sc
  have SC := Lib.hid sc
  have by' := fun w2 => bytes_any (((((s[i].toNat : Int) - 240) * 64 + m1) * 64 + m2) * 64 + m3) w2 hv
  have sz : (strOfNums (encodeRuneZ (((((s[i].toNat : Int) - 240) * 64 + m1) * 64 + m2) * 64 + m3))).size = 4 := by rw [enc_size]; exact hl
  have sm : (strOfNums (encodeRuneZ (((((s[i].toNat : Int) - 240) * 64 + m1) * 64 + m2) * 64 + m3))).size ≤ 4 := by rw [enc_size]; exact (encodeRuneZ_length _).2
  generalize strOfNums (encodeRuneZ (((((s[i].toNat : Int) - 240) * 64 + m1) * 64 + m2) * 64 + m3)) = T at by' sz sm
  have BY := Lib.hid by'
  clear a1 e1 a2 e2 a3 e3 sc by' hv hl
  go_enter Tryz.func47, Tryz.ntmps47
  go_wp2_with fail
  refine wp_loop_rounds 4 ?_
  rw [rounds_succ]
  go_wp2_with (first | (go_at_call 79; with_reducible refine (A1.out _).mono ?_; rintro e1 w1 ⟨rfl, rfl⟩) | (go_at_call 79; with_reducible refine (A2.out _).mono ?_; rintro e1 w1 ⟨rfl, rfl⟩) | (go_at_call 79; with_reducible refine (A3.out _).mono ?_; rintro e1 w1 ⟨rfl, rfl⟩) | (go_at_call 80; refine (SC.out _).mono ?_; rintro e2 w2 ⟨rfl, rfl⟩) | (go_at_call 54; refine (BY.out _).mono ?_; rintro e3 w3 ⟨rfl, hb3⟩))
  rw [rounds_succ]
  go_wp2_with (first | (go_at_call 79; with_reducible refine (A1.out _).mono ?_; rintro e1 w1 ⟨rfl, rfl⟩) | (go_at_call 79; with_reducible refine (A2.out _).mono ?_; rintro e1 w1 ⟨rfl, rfl⟩) | (go_at_call 79; with_reducible refine (A3.out _).mono ?_; rintro e1 w1 ⟨rfl, rfl⟩) | (go_at_call 80; refine (SC.out _).mono ?_; rintro e2 w2 ⟨rfl, rfl⟩) | (go_at_call 54; refine (BY.out _).mono ?_; rintro e3 w3 ⟨rfl, hb3⟩))
  rw [rounds_succ]
  go_wp2_with (first | (go_at_call 79; with_reducible refine (A1.out _).mono ?_; rintro e1 w1 ⟨rfl, rfl⟩) | (go_at_call 79; with_reducible refine (A2.out _).mono ?_; rintro e1 w1 ⟨rfl, rfl⟩) | (go_at_call 79; with_reducible refine (A3.out _).mono ?_; rintro e1 w1 ⟨rfl, rfl⟩) | (go_at_call 80; refine (SC.out _).mono ?_; rintro e2 w2 ⟨rfl, rfl⟩) | (go_at_call 54; refine (BY.out _).mono ?_; rintro e3 w3 ⟨rfl, hb3⟩))
  rw [rounds_succ]
  go_wp2_with (first | (go_at_call 79; with_reducible refine (A1.out _).mono ?_; rintro e1 w1 ⟨rfl, rfl⟩) | (go_at_call 79; with_reducible refine (A2.out _).mono ?_; rintro e1 w1 ⟨rfl, rfl⟩) | (go_at_call 79; with_reducible refine (A3.out _).mono ?_; rintro e1 w1 ⟨rfl, rfl⟩) | (go_at_call 80; refine (SC.out _).mono ?_; rintro e2 w2 ⟨rfl, rfl⟩) | (go_at_call 54; refine (BY.out _).mono ?_; rintro e3 w3 ⟨rfl, hb3⟩))
  go_ret2
  exact ⟨rfl, hb3⟩
end Go.Proofs.YtiigknimfibdpaaGreatDoor.pt
namespace Go.Proofs.YtiigknimfibdpaaGreatDoor.pt
open Go.RowKit Go.Lib
set_option linter.unusedVariables false
/-- What goes on: six bits, or -1. -/
def moN (n b : Nat) : Int := if 0 < n ∧ 128 ≤ b ∧ b ≤ 191 then (b : Int) - 128 else -1
/-- The document's answer, by numbers. -/
def refN (n b0 b1 b2 b3 : Nat) : Int × Int :=
  if b0 < 128 then (b0, 1)
  else if b0 < 192 then (0, 0)
  else if b0 < 224 then
    (if moN (n - 1) b1 = -1 then (0, 0) else if ((b0 : Int) - 192) * 64 + moN (n - 1) b1 < 128 then (0, 0) else (((b0 : Int) - 192) * 64 + moN (n - 1) b1, 2))
  else if b0 < 240 then
    (if moN (n - 1) b1 = -1 then (0, 0) else if moN (n - 2) b2 = -1 then (0, 0) else
      let q := (((b0 : Int) - 224) * 64 + moN (n - 1) b1) * 64 + moN (n - 2) b2
      if q < 2048 ∨ (55296 ≤ q ∧ q ≤ 57343) then (0, 0) else (q, 3))
  else if b0 < 248 then
    (if moN (n - 1) b1 = -1 then (0, 0) else if moN (n - 2) b2 = -1 then (0, 0) else if moN (n - 3) b3 = -1 then (0, 0) else
      let q := ((((b0 : Int) - 240) * 64 + moN (n - 1) b1) * 64 + moN (n - 2) b2) * 64 + moN (n - 3) b3
      if q < 65536 ∨ 1114111 < q then (0, 0) else (q, 4))
  else (0, 0)
set_option maxRecDepth 100000 in
set_option maxHeartbeats 4000000 in
theorem refN_eq (n b0 b1 b2 b3 : Nat) (hn : 1 ≤ n) (h0 : b0 < 256) (h1 : b1 < 256) (h2 : b2 < 256) (h3 : b3 < 256) :
    refN n b0 b1 b2 b3 = if decodeN n b0 b1 b2 b3 = (65533, 1) then (0, 0) else (((decodeN n b0 b1 b2 b3).1 : Int), ((decodeN n b0 b1 b2 b3).2 : Int)) := by
  by_cases c0 : b0 < 128
  · unfold refN decodeN
    simp [c0]
    omega
  by_cases c1 : b0 < 192
  · have e : decodeN n b0 b1 b2 b3 = (65533, 1) := by
      unfold decodeN
      rw [if_neg c0, if_neg (by omega), if_neg (by omega), if_neg (by omega)]
    rw [e]; unfold refN; rw [if_neg c0, if_pos c1]; rfl
  by_cases c2 : b0 < 224
  · unfold refN
    rw [if_neg c0, if_neg c1, if_pos c2]
    by_cases k1 : 1 < n ∧ 128 ≤ b1 ∧ b1 ≤ 191
    · have m1 : moN (n - 1) b1 = (b1 : Int) - 128 := by unfold moN; rw [if_pos (by omega)]
      have e : decodeN n b0 b1 b2 b3 = if b0 % 32 * 64 + b1 % 64 ≥ 128 then (b0 % 32 * 64 + b1 % 64, 2) else (65533, 1) := by
        unfold decodeN; rw [if_neg c0, if_pos (by omega)]
      by_cases q : ((b0 : Int) - 192) * 64 + ((b1 : Int) - 128) < 128
      · rw [if_neg (by omega)] at e
        rw [e, m1, if_neg (by omega), if_pos q]; rfl
      · rw [if_pos (by omega)] at e
        rw [e, m1, if_neg (by omega), if_neg q, if_neg (by simp)]
        simp only [Prod.mk.injEq]
        omega
    · have m1 : moN (n - 1) b1 = -1 := by unfold moN; rw [if_neg (by omega)]
      have e : decodeN n b0 b1 b2 b3 = (65533, 1) := by
        unfold decodeN
        rw [if_neg c0, if_neg (by omega), if_neg (by omega), if_neg (by omega)]
      rw [e, m1]; rfl
  by_cases c3 : b0 < 240
  · unfold refN
    rw [if_neg c0, if_neg c1, if_neg c2, if_pos c3]
    by_cases k : (1 < n ∧ 128 ≤ b1 ∧ b1 ≤ 191) ∧ (2 < n ∧ 128 ≤ b2 ∧ b2 ≤ 191)
    · obtain ⟨k1, k2⟩ := k
      have m1 : moN (n - 1) b1 = (b1 : Int) - 128 := by unfold moN; rw [if_pos (by omega)]
      have m2 : moN (n - 2) b2 = (b2 : Int) - 128 := by unfold moN; rw [if_pos (by omega)]
      obtain ⟨Q, hQ⟩ : ∃ Q, Q = b0 % 16 * 4096 + b1 % 64 * 64 + b2 % 64 := ⟨_, rfl⟩
      have e : decodeN n b0 b1 b2 b3 = if Q ≥ 2048 ∧ (Q < 55296 ∨ (57344 ≤ Q ∧ Q ≤ 1114111)) then (Q, 3) else (65533, 1) := by
        subst hQ; unfold decodeN; rw [if_neg c0, if_neg (by omega), if_pos (by omega)]
      have q : (((b0 : Int) - 224) * 64 + ((b1 : Int) - 128)) * 64 + ((b2 : Int) - 128) = (Q : Int) := by omega
      have hQ2 : Q < 65536 := by omega
      by_cases z : (Q : Int) < 2048 ∨ (55296 ≤ (Q : Int) ∧ (Q : Int) ≤ 57343)
      · rw [if_neg (by omega)] at e
        rw [e, m1, m2, if_neg (by omega), if_neg (by omega)]
        simp only [q]
        rw [if_pos z]; rfl
      · rw [if_pos (by omega)] at e
        rw [e, m1, m2, if_neg (by omega), if_neg (by omega)]
        simp only [q]
        rw [if_neg z, if_neg (by simp)]; rfl
    · have e : decodeN n b0 b1 b2 b3 = (65533, 1) := by
        unfold decodeN
        rw [if_neg c0, if_neg (by omega), if_neg (by omega), if_neg (by omega)]
      rw [e]
      by_cases k1 : 1 < n ∧ 128 ≤ b1 ∧ b1 ≤ 191
      · have m1 : moN (n - 1) b1 = (b1 : Int) - 128 := by unfold moN; rw [if_pos (by omega)]
        have m2 : moN (n - 2) b2 = -1 := by unfold moN; rw [if_neg (by omega)]
        rw [m1, m2, if_neg (by omega)]; rfl
      · have m1 : moN (n - 1) b1 = -1 := by unfold moN; rw [if_neg (by omega)]
        rw [m1]; rfl
  by_cases c4 : b0 < 248
  · unfold refN
    rw [if_neg c0, if_neg c1, if_neg c2, if_neg c3, if_pos c4]
    by_cases k : (1 < n ∧ 128 ≤ b1 ∧ b1 ≤ 191) ∧ (2 < n ∧ 128 ≤ b2 ∧ b2 ≤ 191) ∧ (3 < n ∧ 128 ≤ b3 ∧ b3 ≤ 191)
    · obtain ⟨k1, k2, k3⟩ := k
      have m1 : moN (n - 1) b1 = (b1 : Int) - 128 := by unfold moN; rw [if_pos (by omega)]
      have m2 : moN (n - 2) b2 = (b2 : Int) - 128 := by unfold moN; rw [if_pos (by omega)]
      have m3 : moN (n - 3) b3 = (b3 : Int) - 128 := by unfold moN; rw [if_pos (by omega)]
      obtain ⟨Q, hQ⟩ : ∃ Q, Q = b0 % 8 * 262144 + b1 % 64 * 4096 + b2 % 64 * 64 + b3 % 64 := ⟨_, rfl⟩
      have e : decodeN n b0 b1 b2 b3 = if Q ≥ 65536 ∧ (Q < 55296 ∨ (57344 ≤ Q ∧ Q ≤ 1114111)) then (Q, 4) else (65533, 1) := by
        subst hQ; unfold decodeN; rw [if_neg c0, if_neg (by omega), if_neg (by omega), if_pos (by omega)]
      have q : ((((b0 : Int) - 240) * 64 + ((b1 : Int) - 128)) * 64 + ((b2 : Int) - 128)) * 64 + ((b3 : Int) - 128) = (Q : Int) := by omega
      by_cases z : (Q : Int) < 65536 ∨ 1114111 < (Q : Int)
      · rw [if_neg (by omega)] at e
        rw [e, m1, m2, m3, if_neg (by omega), if_neg (by omega), if_neg (by omega)]
        simp only [q]
        rw [if_pos z]; rfl
      · rw [if_pos (by omega)] at e
        rw [e, m1, m2, m3, if_neg (by omega), if_neg (by omega), if_neg (by omega)]
        simp only [q]
        rw [if_neg z, if_neg (by simp)]; rfl
    · have e : decodeN n b0 b1 b2 b3 = (65533, 1) := by
        unfold decodeN
        rw [if_neg c0, if_neg (by omega), if_neg (by omega), if_neg (by omega)]
      rw [e]
      by_cases k1 : 1 < n ∧ 128 ≤ b1 ∧ b1 ≤ 191
      · have m1 : moN (n - 1) b1 = (b1 : Int) - 128 := by unfold moN; rw [if_pos (by omega)]
        by_cases k2 : 2 < n ∧ 128 ≤ b2 ∧ b2 ≤ 191
        · have m2 : moN (n - 2) b2 = (b2 : Int) - 128 := by unfold moN; rw [if_pos (by omega)]
          have m3 : moN (n - 3) b3 = -1 := by unfold moN; rw [if_neg (by omega)]
          rw [m1, m2, m3, if_neg (by omega), if_neg (by omega)]; rfl
        · have m2 : moN (n - 2) b2 = -1 := by unfold moN; rw [if_neg (by omega)]
          rw [m1, m2, if_neg (by omega)]; rfl
      · have m1 : moN (n - 1) b1 = -1 := by unfold moN; rw [if_neg (by omega)]
        rw [m1]; rfl
  · have e : decodeN n b0 b1 b2 b3 = (65533, 1) := by
      unfold decodeN
      rw [if_neg c0, if_neg (by omega), if_neg (by omega), if_neg (by omega)]
    rw [e]; unfold refN
    rw [if_neg c0, if_neg c1, if_neg c2, if_neg c3, if_neg c4]; rfl
end Go.Proofs.YtiigknimfibdpaaGreatDoor.pt
namespace Go.Proofs.YtiigknimfibdpaaGreatDoor.pt
open Go.RowKit Go.Lib
set_option linter.unusedVariables false
theorem get_at (s : ByteArray) (i : Nat) (h : i < s.size) : s.get! i = s[i] := by
  have h' : i < s.data.size := h
  show s.data[i]! = s.data[i]
  exact getElem!_pos s.data i h'
theorem mo_eq (s : ByteArray) (i k : Nat) : mo s (i + k) = moN (s.size - i - k) (s.get! (i + k)).toNat := by
  unfold mo moN
  by_cases h : i + k < s.size
  · rw [dif_pos h, get_at s (i + k) h]
    by_cases h2 : 128 ≤ s[i + k].toNat ∧ s[i + k].toNat ≤ 191
    · rw [if_pos h2, if_pos (by omega)]
    · rw [if_neg h2, if_neg (by omega)]
  · rw [dif_neg h, if_neg (by omega)]
theorem len_two {q : Int} (h0 : 128 ≤ q) (h1 : q ≤ 2047) : (encodeRuneZ q).length = 2 := by rw [encodeRuneZ_two h0 h1]; rfl
theorem len_one {q : Int} (h0 : 0 ≤ q) (h1 : q ≤ 127) : (encodeRuneZ q).length = 1 := by rw [encodeRuneZ_one h0 h1]; rfl
theorem len_three {q : Int} (h : (2048 ≤ q ∧ q < 55296) ∨ (57343 < q ∧ q ≤ 65535)) : (encodeRuneZ q).length = 3 := by rw [encodeRuneZ_three h]; rfl
theorem len_four {q : Int} (h0 : 65536 ≤ q) (h1 : q ≤ 1114111) : (encodeRuneZ q).length = 4 := by rw [encodeRuneZ_four h0 h1]; rfl
theorem len_low {q : Int} (h0 : 0 ≤ q) (h1 : q ≤ 2047) : (encodeRuneZ q).length ≤ 2 := by
  by_cases h : q ≤ 127
  · rw [len_one h0 h]; omega
  · rw [len_two (by omega) h1]; omega
theorem valid_of {q : Int} (h : (0 ≤ q ∧ q < 55296) ∨ (57343 < q ∧ q ≤ 1114111)) : validRune q = true := by unfold validRune; exact decide_eq_true h
theorem invalid_of {q : Int} (h : ¬ ((0 ≤ q ∧ q < 55296) ∨ (57343 < q ∧ q ≤ 1114111))) : validRune q = false := by unfold validRune; exact decide_eq_false h
theorem at_ref (s : ByteArray) (i : Nat) (w : World) (hi : i < s.size) (hs : s.size ≤ 4000000000) (r : Int × Int)
    (hr : r = refN (s.size - i) (s.get! i).toNat (s.get! (i + 1)).toNat (s.get! (i + 2)).toNat (s.get! (i + 3)).toNat) :
    Calls Tryz.prog 47 #[.string s, .int .i64 i] w fun x w' => x = .returned (.tuple #[.int .i32 r.1, .int .i64 r.2]) ∧ Below w.heap.size w w' := by
  have hb0 : (s.get! i).toNat = s[i].toNat := by rw [get_at s i hi]
  have hub : s[i].toNat < 256 := s[i].toNat_lt
  rw [hb0] at hr
  have e1 := mo_eq s i 1
  have e2 := mo_eq s i 2
  have e3 := mo_eq s i 3
  have r1 := mo_range s (i + 1)
  have r2 := mo_range s (i + 2)
  have r3 := mo_range s (i + 3)
  unfold refN at hr
  rw [← e1, ← e2, ← e3] at hr
  clear e1 e2 e3
  by_cases c0 : s[i].toNat < 128
  · rw [if_pos c0] at hr
    subst hr
    exact at_one s i w hi hs c0
  rw [if_neg c0] at hr
  by_cases c1 : s[i].toNat < 192
  · rw [if_pos c1] at hr
    subst hr
    exact at_low s i w hi hs (by omega) c1
  rw [if_neg c1] at hr
  by_cases c2 : s[i].toNat < 224
  · rw [if_pos c2] at hr
    by_cases m1 : mo s (i + 1) = -1
    · rw [if_pos m1] at hr
      subst hr
      exact at_two_neg1 s i w hi hs (by omega) c2 m1
    rw [if_neg m1] at hr
    have l1 : 0 ≤ mo s (i + 1) := by omega
    have u1 : mo s (i + 1) ≤ 63 := by omega
    by_cases q : ((s[i].toNat : Int) - 192) * 64 + mo s (i + 1) < 128
    · rw [if_pos q] at hr
      subst hr
      exact at_two_len s i w hi hs (by omega) c2 _ rfl l1 u1 (valid_of (by omega)) (by rw [len_one (by omega) (by omega)]; decide)
    · rw [if_neg q] at hr
      subst hr
      exact at_two_ok s i w hi hs (by omega) c2 _ rfl l1 u1 (valid_of (by omega)) (len_two (by omega) (by omega))
  rw [if_neg c2] at hr
  by_cases c3 : s[i].toNat < 240
  · rw [if_pos c3] at hr
    by_cases m1 : mo s (i + 1) = -1
    · rw [if_pos m1] at hr
      subst hr
      exact at_three_neg1 s i w hi hs (by omega) c3 m1
    rw [if_neg m1] at hr
    have l1 : 0 ≤ mo s (i + 1) := by omega
    have u1 : mo s (i + 1) ≤ 63 := by omega
    by_cases m2 : mo s (i + 2) = -1
    · rw [if_pos m2] at hr
      subst hr
      exact at_three_neg2 s i w hi hs (by omega) c3 _ rfl l1 u1 m2
    rw [if_neg m2] at hr
    have l2 : 0 ≤ mo s (i + 2) := by omega
    have u2 : mo s (i + 2) ≤ 63 := by omega
    simp only at hr
    by_cases v : 55296 ≤ (((s[i].toNat : Int) - 224) * 64 + mo s (i + 1)) * 64 + mo s (i + 2) ∧ (((s[i].toNat : Int) - 224) * 64 + mo s (i + 1)) * 64 + mo s (i + 2) ≤ 57343
    · rw [if_pos (Or.inr v)] at hr
      subst hr
      exact at_three_bad s i w hi hs (by omega) c3 _ rfl l1 u1 _ rfl l2 u2 (invalid_of (by omega))
    by_cases q : (((s[i].toNat : Int) - 224) * 64 + mo s (i + 1)) * 64 + mo s (i + 2) < 2048
    · rw [if_pos (Or.inl q)] at hr
      subst hr
      exact at_three_len s i w hi hs (by omega) c3 _ rfl l1 u1 _ rfl l2 u2 (valid_of (by omega)) (by have := len_low (q := (((s[i].toNat : Int) - 224) * 64 + mo s (i + 1)) * 64 + mo s (i + 2)) (by omega) (by omega); omega)
    · rw [if_neg (by omega)] at hr
      subst hr
      exact at_three_ok s i w hi hs (by omega) c3 _ rfl l1 u1 _ rfl l2 u2 (valid_of (by omega)) (len_three (by omega))
  rw [if_neg c3] at hr
  by_cases c4 : s[i].toNat < 248
  · rw [if_pos c4] at hr
    by_cases m1 : mo s (i + 1) = -1
    · rw [if_pos m1] at hr
      subst hr
      exact at_four_neg1 s i w hi hs (by omega) c4 m1
    rw [if_neg m1] at hr
    have l1 : 0 ≤ mo s (i + 1) := by omega
    have u1 : mo s (i + 1) ≤ 63 := by omega
    by_cases m2 : mo s (i + 2) = -1
    · rw [if_pos m2] at hr
      subst hr
      exact at_four_neg2 s i w hi hs (by omega) c4 _ rfl l1 u1 m2
    rw [if_neg m2] at hr
    have l2 : 0 ≤ mo s (i + 2) := by omega
    have u2 : mo s (i + 2) ≤ 63 := by omega
    by_cases m3 : mo s (i + 3) = -1
    · rw [if_pos m3] at hr
      subst hr
      exact at_four_neg3 s i w hi hs (by omega) c4 _ rfl l1 u1 _ rfl l2 u2 m3
    rw [if_neg m3] at hr
    have l3 : 0 ≤ mo s (i + 3) := by omega
    have u3 : mo s (i + 3) ≤ 63 := by omega
    simp only at hr
    obtain ⟨Q, hQ⟩ : ∃ Q, Q = ((((s[i].toNat : Int) - 240) * 64 + mo s (i + 1)) * 64 + mo s (i + 2)) * 64 + mo s (i + 3) := ⟨_, rfl⟩
    rw [← hQ] at hr
    have hQ0 : 0 ≤ Q := by omega
    by_cases v : (0 ≤ Q ∧ Q < 55296) ∨ (57343 < Q ∧ Q ≤ 1114111)
    · by_cases q : Q < 65536
      · rw [if_pos (Or.inl q)] at hr
        subst hr
        have hl : (encodeRuneZ Q).length ≠ 4 := by
          by_cases z : Q ≤ 2047
          · have := len_low hQ0 z; omega
          · rw [len_three (by omega)]; decide
        exact at_four_len s i w hi hs (by omega) c4 _ rfl l1 u1 _ rfl l2 u2 _ rfl l3 u3 (by rw [← hQ]; exact valid_of v) (by rw [← hQ]; exact hl)
      · rw [if_neg (by omega)] at hr
        subst hr
        have := at_four_ok s i w hi hs (by omega) c4 _ rfl l1 u1 _ rfl l2 u2 _ rfl l3 u3 (by rw [← hQ]; exact valid_of v) (by rw [← hQ]; exact len_four (by omega) (by omega))
        rw [← hQ] at this
        exact this
    · rw [if_pos (by omega)] at hr
      subst hr
      exact at_four_bad s i w hi hs (by omega) c4 _ rfl l1 u1 _ rfl l2 u2 _ rfl l3 u3 (by rw [← hQ]; exact invalid_of v)
  · rw [if_neg c4] at hr
    subst hr
    exact at_high s i w hi hs (by omega) hub
/-- The answer: a sign and its bytes; (0, 0): none. -/
theorem at_any (s : ByteArray) (i : Nat) (w : World) (hi : i < s.size) (hs : s.size ≤ 4000000000) :
    Calls Tryz.prog 47 #[.string s, .int .i64 i] w fun x w' => x = .returned (.tuple #[.int .i32 (if bad s i then 0 else (Utf8.decode s i).1), .int .i64 (if bad s i then 0 else (Utf8.decode s i).2)]) ∧ Below w.heap.size w w' := by
  have h := at_ref s i w hi hs _ rfl
  rw [refN_eq _ _ _ _ _ (by omega) (s.get! i).toNat_lt (s.get! (i + 1)).toNat_lt (s.get! (i + 2)).toNat_lt (s.get! (i + 3)).toNat_lt, ← decode_at] at h
  unfold bad
  by_cases hb : Utf8.decode s i = (65533, 1)
  · rw [if_pos hb] at h
    rw [hb]
    exact h
  · rw [if_neg hb] at h
    have : ((Utf8.decode s i).1 == 65533 && (Utf8.decode s i).2 == 1) = false := by
      rw [Bool.eq_false_iff]
      intro hh
      simp at hh
      exact hb (Prod.ext hh.1 hh.2)
    rw [this]
    exact h
end Go.Proofs.YtiigknimfibdpaaGreatDoor.pt
namespace Go.Proofs.YtiigknimfibdpaaGreatDoor.pt
open Go.RowKit Go.Lib
set_option linter.unusedVariables false
theorem rune_info : (Tryz.prog.info? 21).map (fun i => (i.zero, i.size, i.bytes)) = some (some (.int .i32 0), 1, 4) := by kernel_rfl
def runesV (l : List Nat) : List Value := l.map fun x => Value.int .i32 (Int.ofNat x)
theorem width_fits (s : ByteArray) (pos : Nat) (h : pos < s.size) : pos + (Utf8.decode s pos).2 ≤ s.size := by
  have hl : (s.data.toList.drop pos).length = s.size - pos := by rw [List.length_drop, Array.length_toList]; rfl
  have hne : s.data.toList.drop pos ≠ [] := by
    intro h0
    rw [h0] at hl
    simp at hl; omega
  have := decodeL_le _ hne
  rw [decodeL_drop, hl] at this
  omega
theorem owns_below {B : Nat} {e : TypeId} {v : Value} {n : Nat} {xs : List Value} {wr w1 : World} (h : wr.ownsRow B e 1 v n xs) (hb : Below wr.heap.size wr w1) : w1.ownsRow B e 1 v n xs := by
  obtain ⟨hl, h | ⟨g, cap, cur, rfl, hB, hg, h1, h2, h3, h4⟩⟩ := h
  · exact ⟨hl, .inl h⟩
  · have hlt : g < wr.heap.size := (Array.getElem?_eq_some_iff.1 hg).1
    exact ⟨hl, .inr ⟨g, cap, cur, rfl, hB, (hb.block g hlt).trans hg, h1, h2, h3, h4⟩⟩
theorem runes_snoc (l : List Nat) (p : Nat) : runesV (l ++ [p]) = runesV l ++ [.int .i32 (p : Int)] := by simp [runesV]
set_option maxRecDepth 100000 in
set_option maxHeartbeats 1000000 in
theorem refPoints_any (s : ByteArray) (w : World) (hs : s.size ≤ 4000) : Calls Tryz.prog 26 #[.string s] w fun e w' => ∃ v d, e = .returned (.tuple #[v, .int .i64 d]) ∧ Below w.heap.size w w' ∧
    ((∃ A, (scan s).2 = some A ∧ d = (A : Nat) ∧ v = .slice none 0 0) ∨ ((scan s).2 = none ∧ d = -1 ∧ w'.ownsRow w.heap.size 21 1 v (scan s).1.length (runesV (scan s).1))) := by
  obtain ⟨i0, hi0, hzz⟩ := Option.map_eq_some_iff.1 rune_info
  simp only [Prod.mk.injEq] at hzz
  obtain ⟨hz, hsi, hby⟩ := hzz
  obtain ⟨L, hL⟩ : ∃ L, L = (scan s).1 := ⟨_, rfl⟩
  obtain ⟨D, hD⟩ : ∃ D, D = (scan s).2 := ⟨_, rfl⟩
  rw [← hL, ← hD]
  have HL := Lib.hid hL; have HD := Lib.hid hD
  clear hL hD
  go_enter Tryz.func26, Tryz.ntmps26
  go_wp2_with fail
  go_loopw [4, 5] (fun v i wr => ∃ (pos f : Nat) (pre : List Nat), pos ≤ s.size ∧ i = .int .i64 pos ∧ s.size ≤ pos + f ∧ pre.length ≤ pos ∧ pre ++ (sc s f pos).1 = L ∧ (sc s f pos).2 = D ∧ wr.ownsRow w.heap.size 21 1 v pre.length (runesV pre) ∧ Below w.heap.size w wr) (fun _ i _ => s.size - (RowKit.intOf i).toNat)
  case atStart => exact ⟨0, s.size, [], Nat.zero_le _, rfl, by omega, by simp, HL.out.symm, HD.out.symm, World.ownsRow_nil _ _ _ _, Below.refl _ _⟩
  case round =>
    obtain ⟨pos, f, pre, hps, rfl, hf, hpl, hpre, hsc, hown, hB⟩ := hrel
    have HPR := Lib.hid hpre; have HSC := Lib.hid hsc; have HOW := Lib.hid hown; have HB := Lib.hid hB
    clear hpre hsc hown hB
    by_cases hp : pos < s.size
    · have hat := at_any s pos wr hp (by omega)
      cases hb : bad s pos with
      | true =>
        have hsc1 := HSC.out
        rw [sc_bad s f pos hp hf hb] at hsc1
        rw [hb] at hat
        have HAT := Lib.hid hat; have HS1 := Lib.hid hsc1
        clear hat hsc1 hb
        go_wp2_with (go_at_call 47; refine HAT.out.mono ?_; rintro e1 w1 ⟨rfl, hb1⟩)
        go_ret2
        exact ⟨_, _, rfl, HB.out.trans (hb1.mono HB.out.size), .inl ⟨pos, HS1.out.symm, rfl, rfl⟩⟩
      | false =>
        obtain ⟨f1, rfl⟩ : ∃ f1, f = f1 + 1 := ⟨f - 1, by omega⟩
        have hsc1 := HSC.out
        have hpre1 := HPR.out
        rw [sc_good s f1 pos hp hb] at hsc1 hpre1
        rw [hb] at hat
        simp only [Bool.false_eq_true, if_false] at hat
        have hw1 := width_pos s pos
        have hw2 := width_fits s pos hp
        have hr := rune_le s pos
        have hpf : s.size ≤ pos + (Utf8.decode s pos).2 + f1 := by omega
        have HAT := Lib.hid hat; have HS1 := Lib.hid hsc1; have HP1 := Lib.hid hpre1
        clear hat hsc1 hpre1 hb
        generalize Utf8.decode s pos = d at *
        have hd0 : ¬ (d.2 : Int) = 0 := by omega
        go_wp2_with (first | (go_at_call 47; refine HAT.out.mono ?_; rintro e1 w1 ⟨rfl, hb1⟩; have B1 := Lib.hid (HB.out.trans (hb1.mono HB.out.size)); have O1 := Lib.hid (owns_below HOW.out hb1)) | (at_builtin; refine wpList_append_own _ rfl _ _ 58 rfl w.heap.size 21 i0 (.int .i32 0) 1 4 Tryz.underlying58 hi0 hz hsi hby rfl (by decide) _ _ _ rfl (O1.out.alloc _) ⟨w1.heap.size, 0, none⟩ 1 1 [.int .i32 (d.1 : Int)] rfl rfl ?c1 ?c2 ?c3 ?c4 ?c5 ?_))
        case c1 =>
          intro j u hj
          match j, hj with
          | 0, hj =>
            simp at hj
            subst hj
            have e : (⟨w1.heap.size, 0, none⟩ : Addr).add 0 = ⟨w1.heap.size, 0, none⟩ := by simp [Addr.add]
            rw [e, World.cell?_alloc_mark]; rfl
          | (j + 1), hj => simp at hj
        case c2 => intro u hu; simp at hu; subst hu; rfl
        case c3 => unfold maxLen; omega
        case c4 => omega
        case c5 => have := B1.out.size; simp; omega
        intro v' w2 hown2 hgrow _
        have HO2 := Lib.hid hown2
        clear hown2
        go_wp2
        go_roundw
        case rel => exact ⟨pos + d.2, f1, pre ++ [d.1], hw2, by go_num, hpf, by simp; omega, by rw [List.append_assoc]; exact HP1.out, HS1.out, by rw [runes_snoc, List.length_append]; exact HO2.out, below_grown B1.out B1.out.size O1.out hgrow⟩
        case measure => simp [RowKit.intOf]; omega
    · have hsc1 := HSC.out
      have hpre1 := HPR.out
      rw [sc_end s f pos hp] at hsc1 hpre1
      have HS1 := Lib.hid hsc1; have HP1 := Lib.hid hpre1
      clear hsc1 hpre1
      go_wp2
      go_ret2
      exact ⟨_, _, rfl, HB.out, .inr ⟨HS1.out.symm, rfl, by have := HP1.out; rw [List.append_nil] at this; rw [← this]; exact HOW.out⟩⟩
end Go.Proofs.YtiigknimfibdpaaGreatDoor.pt
namespace Go.Proofs.YtiigknimfibdpaaGreatDoor.pt
open Go.RowKit Go.Lib
set_option linter.unusedVariables false
/-- A slice of numbers, none or a row. -/
def RowI (w : World) (p : Option Addr) (len cap : Nat) (zs : List Int) : Prop :=
  (p = none ∧ len = 0 ∧ cap = 0 ∧ zs = []) ∨ ∃ a, p = some a ∧ len ≤ cap ∧ cap ≤ maxLen ∧ zs.length = len ∧ ∀ i, i < len → w.cell? (a.add i) = some (.int .i32 (zs.getD i 0))
theorem RowI.below {w w' : World} {p : Option Addr} {len cap : Nat} {zs : List Int} (h : RowI w p len cap zs) (hb : Below w.heap.size w w') : RowI w' p len cap zs := by
  rcases h with h | ⟨a, h1, h2, h3, h4, h5⟩
  · exact .inl h
  · exact .inr ⟨a, h1, h2, h3, h4, fun i hi => (hb.cell (World.block_lt_of_cell? w _ (h5 i hi))).trans (h5 i hi)⟩
theorem RowI.at {w : World} {p : Option Addr} {len cap : Nat} {zs : List Int} (h : RowI w p len cap zs) (i : Nat) (hi : i < len) : ∃ a, p = some a ∧ len ≤ cap ∧ cap ≤ maxLen ∧ w.cell? (a.add i) = some (.int .i32 (zs.getD i 0)) := by
  rcases h with ⟨_, h1, _, _⟩ | ⟨a, h1, h2, h3, _, h5⟩
  · omega
  · exact ⟨a, h1, h2, h3, h5 i hi⟩
set_option maxRecDepth 100000 in
theorem text_nil (w : World) : Calls Tryz.prog 73 #[.slice none 0 0] w fun e w' => e = .returned (.tuple #[.string ⟨#[]⟩, .bool true]) ∧ Below w.heap.size w w' := by
  have hmk : ∀ w2, (Instr.makeSlice 98 (.int .i64 0) (.int .i64 0)).run Tryz.prog w2 = _ := fun w2 => mk_bytes 0 (by decide) w2
  have hcv := conv_row (w.alloc (.cells (madeCells #[.int .u8 0] 0) 5)) w.heap.size (.slice (some ⟨w.heap.size, 0, none⟩) 0 0) [] (World.ownsRow_made w _ 0 (Nat.le_refl _) (by unfold maxLen; omega) (by simp [madeCells]))
  have e0 : strOfNums [] = ⟨#[]⟩ := rfl
  rw [e0] at hcv
  go_enter Tryz.func73, Tryz.ntmps73
  go_wp2_with fail
  refine wp_loop_rounds 1 ?_
  rw [rounds_succ]
  go_wp2_with fail
  go_ret2
  exact ⟨rfl, by repeat (first | (with_reducible exact Below.refl _ _) | (with_reducible refine Below.setCell ?_ (by simp) _) | (with_reducible refine Below.alloc ?_ (by simp) _))⟩
theorem text_row (p : Option Addr) (n c : Nat) (zs : List Int) (w : World) (h : RowI w p n c zs) (hn : n ≤ 4000) : Calls Tryz.prog 73 #[.slice p n c] w fun e w' => e = .returned (.tuple #[.string (if zs.all validRune then txt zs else ⟨#[]⟩), .bool (zs.all validRune)]) ∧ Below w.heap.size w w' := by
  rcases h with ⟨rfl, rfl, rfl, rfl⟩ | ⟨a, rfl, h1, h2, h3, h4⟩
  · exact text_nil w
  · exact text_any a n c zs w h3 h1 h2 hn h4
end Go.Proofs.YtiigknimfibdpaaGreatDoor.pt
namespace Go.Proofs.YtiigknimfibdpaaGreatDoor.pt
open Go.RowKit Go.Lib
set_option linter.unusedVariables false
theorem decodeN_valid (n b0 b1 b2 b3 : Nat) : validRune ((decodeN n b0 b1 b2 b3).1 : Int) = true := by
  unfold validRune
  apply decide_eq_true
  unfold decodeN
  repeat' split
  all_goals (simp only; omega)
theorem decode_valid (s : ByteArray) (i : Nat) : validRune ((Utf8.decode s i).1 : Int) = true := by rw [decode_at]; exact decodeN_valid _ _ _ _ _
def zsFrom (s : ByteArray) (f pos : Nat) : List Int := (sc s f pos).1.map Int.ofNat
theorem zs_valid (s : ByteArray) : ∀ f pos, (zsFrom s f pos).all validRune = true
  | 0, pos => rfl
  | f + 1, pos => by
    unfold zsFrom
    by_cases hp : pos < s.size
    · cases hb : bad s pos with
      | true => simp [sc, hp, hb]
      | false =>
        rw [sc_good s f pos hp hb]
        have ih := zs_valid s f (pos + (Utf8.decode s pos).2)
        unfold zsFrom at ih
        simp only [List.map_cons, List.all_cons, ih, Bool.and_true]
        exact decode_valid s pos
    · rw [sc_end s (f + 1) pos hp]; rfl
theorem enc_cons (x : Int) (l : List Int) : enc (x :: l) = runeCells x ++ enc l := by simp [enc, nums, runeCells]
theorem byteCells_append (a b : List UInt8) : byteCells (a ++ b) = byteCells a ++ byteCells b := by simp [byteCells]
theorem enc_back (s : ByteArray) : ∀ f pos, s.size ≤ pos + f → (sc s f pos).2 = none → enc (zsFrom s f pos) = byteCells (s.data.toList.drop pos)
  | 0, pos, h, _ => by
    have : s.data.toList.drop pos = [] := List.drop_eq_nil_of_le (by rw [Array.length_toList]; exact h)
    rw [this]; rfl
  | f + 1, pos, h, hn => by
    by_cases hp : pos < s.size
    · cases hb : bad s pos with
      | true => simp [sc, hp, hb] at hn
      | false =>
        have hw := width_pos s pos
        rw [sc_good s f pos hp hb] at hn
        have ih := enc_back s f (pos + (Utf8.decode s pos).2) (by omega) hn
        have hne : s.data.toList.drop pos ≠ [] := by
          intro h0
          have := congrArg List.length h0
          rw [List.length_drop, Array.length_toList] at this
          have e : s.data.size = s.size := rfl
          simp at this; omega
        have hv : ¬ ((decodeL (s.data.toList.drop pos)).1 = 65533 ∧ (decodeL (s.data.toList.drop pos)).2 = 1) := by
          rw [decodeL_drop]
          unfold bad at hb
          simpa using hb
        have he := encode_decode _ hne hv
        rw [decodeL_drop] at he
        unfold zsFrom at ih ⊢
        rw [sc_good s f pos hp hb]
        simp only [List.map_cons]
        rw [enc_cons, ih]
        have e1 : runeCells (Int.ofNat (Utf8.decode s pos).1) = byteCells ((s.data.toList.drop pos).take (Utf8.decode s pos).2) := by
          rw [← he, byteCells_encodeRune]; rfl
        rw [e1, ← byteCells_append, ← List.drop_drop, List.take_append_drop]
    · rw [sc_end s (f + 1) pos hp] at hn
      have : s.data.toList.drop pos = [] := List.drop_eq_nil_of_le (by rw [Array.length_toList]; have e : s.data.size = s.size := rfl; omega)
      unfold zsFrom
      rw [this, sc_end s (f + 1) pos hp]; rfl
theorem u8_inj : ∀ (a b : List Int), a.map (Value.int .u8) = b.map (Value.int .u8) → a = b
  | [], [], _ => rfl
  | [], _ :: _, h => by simp at h
  | _ :: _, [], h => by simp at h
  | x :: a, y :: b, h => by
    simp only [List.map_cons, List.cons.injEq, Value.int.injEq, true_and] at h
    rw [h.1, u8_inj a b h.2]
theorem str_back (s : ByteArray) : strOfNums (s.data.toList.map fun b => (b.toNat : Int)) = s := by
  unfold strOfNums
  rw [List.map_map]
  have : ((fun n : Int => UInt8.ofNat n.toNat) ∘ fun b : UInt8 => (b.toNat : Int)) = id := by funext b; simp
  rw [this, List.map_id]
theorem txt_back (s : ByteArray) (h : (scan s).2 = none) : txt (zsOf s) = s := by
  have h1 := enc_back s s.size 0 (by omega) h
  rw [List.drop_zero] at h1
  have h2 : nums (zsOf s) = s.data.toList.map fun b => (b.toNat : Int) := u8_inj _ _ (by
    have : enc (zsOf s) = byteCells s.data.toList := h1
    unfold enc at this
    rw [this]; simp [byteCells])
  unfold txt
  rw [h2, str_back]
theorem zsOf_valid (s : ByteArray) : (zsOf s).all validRune = true := zs_valid s s.size 0
theorem zsOf_len (s : ByteArray) : (zsOf s).length = (scan s).1.length := by simp [zsOf]
theorem runesV_zs (s : ByteArray) : runesV (scan s).1 = (zsOf s).map (Value.int .i32) := by simp [runesV, zsOf]
theorem add_zero (g i : Nat) : (⟨g, 0, none⟩ : Addr).add i = ⟨g, i, none⟩ := by simp [Addr.add]; intro h; exact h.symm
theorem points_row (s : ByteArray) (n : Nat) (w : World) (hs : s.size ≤ 4000000000) (hT : Tabs w) (h : (scan s).2 = none) (hn : (zsOf s).length = n) : Calls Tryz.prog 93 #[.string s] w fun e w' => ∃ q d, e = .returned (.tuple #[.slice q n d, .agg #[.int .i64 0, .int .i64 0]]) ∧ RowI w' q n d (zsOf s) ∧ Below w.heap.size w w' := by
  subst hn
  refine (points_good s w hs hT h).mono ?_
  rintro e w' ⟨g, cap, rfl, h1, h2, h3, h4, h5, h6⟩
  exact ⟨_, _, rfl, .inr ⟨_, rfl, h1, h2, rfl, fun i hi => by rw [add_zero]; exact h5 i hi⟩, h6⟩
theorem refPoints_row (s : ByteArray) (n : Nat) (w : World) (hs : s.size ≤ 4000) (h : (scan s).2 = none) (hn : (zsOf s).length = n) : Calls Tryz.prog 26 #[.string s] w fun e w' => ∃ q d, e = .returned (.tuple #[.slice q n d, .int .i64 (-1)]) ∧ RowI w' q n d (zsOf s) ∧ Below w.heap.size w w' := by
  subst hn
  refine (refPoints_any s w hs).mono ?_
  rintro e w' ⟨v, d, rfl, hb, ⟨A, hA, _⟩ | ⟨_, rfl, ho⟩⟩
  · rw [h] at hA; cases hA
  · rw [← zsOf_len, runesV_zs] at ho
    obtain ⟨hl, ⟨rfl, h0⟩ | ⟨g, cap, cur, rfl, hB, hg, h1, h2, h3, h4⟩⟩ := ho
    · exact ⟨none, 0, by rw [h0], .inl ⟨rfl, h0, rfl, List.length_eq_zero_iff.1 h0⟩, hb⟩
    · refine ⟨_, _, rfl, .inr ⟨_, rfl, h1, h2, rfl, fun i hi => ?_⟩, hb⟩
      rw [add_zero]
      have h5 := congrArg (·[i]?) h4
      simp only [Nat.mul_one] at h5
      rw [List.getElem?_take_of_lt hi, Array.getElem?_toList] at h5
      simp only [World.cell?, hg]
      simp [h5, List.getElem?_eq_getElem hi, List.getD]
theorem refPoints_none (s : ByteArray) (A : Nat) (w : World) (hs : s.size ≤ 4000) (h : (scan s).2 = some A) : Calls Tryz.prog 26 #[.string s] w fun e w' => e = .returned (.tuple #[.slice none 0 0, .int .i64 A]) ∧ Below w.heap.size w w' := by
  refine (refPoints_any s w hs).mono ?_
  rintro e w' ⟨v, d, rfl, hb, ⟨A', hA, rfl, rfl⟩ | ⟨h1, _⟩⟩
  · rw [h] at hA; cases hA; exact ⟨rfl, hb⟩
  · rw [h] at h1; cases h1
end Go.Proofs.YtiigknimfibdpaaGreatDoor.pt
namespace Go.Proofs.YtiigknimfibdpaaGreatDoor.pt
open Go.RowKit Go.Lib
set_option linter.unusedVariables false
/-- Decoding by numbers looks at the sign's own bytes alone. -/
theorem decodeN_enc (x : Int) (h : validRune x = true) (n b0 b1 b2 b3 : Nat) (hn : (encodeRuneZ x).length ≤ n)
    (hb : ∀ i, i < (encodeRuneZ x).length → (([b0, b1, b2, b3] : List Nat).getD i 0 : Int) = (encodeRuneZ x).getD i 0) :
    decodeN n b0 b1 b2 b3 = (x.toNat, (encodeRuneZ x).length) := by
  have hv : (0 ≤ x ∧ x < 55296) ∨ (57343 < x ∧ x ≤ 1114111) := by unfold validRune at h; simpa using h
  by_cases h1 : x ≤ 127
  · rw [encodeRuneZ_one (by omega) h1] at hn hb ⊢
    have e0 := hb 0 (by simp)
    simp at e0
    unfold decodeN
    rw [if_pos (by omega)]
    simp; omega
  by_cases h2 : x ≤ 2047
  · rw [encodeRuneZ_two (by omega) h2] at hn hb ⊢
    have e0 := hb 0 (by simp)
    have e1 := hb 1 (by simp)
    simp at e0 e1 hn
    unfold decodeN
    rw [if_neg (by omega), if_pos (by omega), if_pos (by omega)]
    simp; omega
  by_cases h3 : x ≤ 65535
  · rw [encodeRuneZ_three (by omega)] at hn hb ⊢
    have e0 := hb 0 (by simp)
    have e1 := hb 1 (by simp)
    have e2 := hb 2 (by simp)
    simp at e0 e1 e2 hn
    obtain ⟨Q, hQ⟩ : ∃ Q, Q = b0 % 16 * 4096 + b1 % 64 * 64 + b2 % 64 := ⟨_, rfl⟩
    have hQx : (Q : Int) = x := by omega
    have e : decodeN n b0 b1 b2 b3 = if Q ≥ 2048 ∧ (Q < 55296 ∨ (57344 ≤ Q ∧ Q ≤ 1114111)) then (Q, 3) else (65533, 1) := by
      subst hQ; unfold decodeN; rw [if_neg (by omega), if_neg (by omega), if_pos (by omega)]
    rw [e, if_pos (by omega)]
    simp; omega
  · rw [encodeRuneZ_four (by omega) (by omega)] at hn hb ⊢
    have e0 := hb 0 (by simp)
    have e1 := hb 1 (by simp)
    have e2 := hb 2 (by simp)
    have e3 := hb 3 (by simp)
    simp at e0 e1 e2 e3 hn
    obtain ⟨Q, hQ⟩ : ∃ Q, Q = b0 % 8 * 262144 + b1 % 64 * 4096 + b2 % 64 * 64 + b3 % 64 := ⟨_, rfl⟩
    have hQx : (Q : Int) = x := by omega
    have e : decodeN n b0 b1 b2 b3 = if Q ≥ 65536 ∧ (Q < 55296 ∨ (57344 ≤ Q ∧ Q ≤ 1114111)) then (Q, 4) else (65533, 1) := by
      subst hQ; unfold decodeN; rw [if_neg (by omega), if_neg (by omega), if_neg (by omega), if_pos (by omega)]
    rw [e, if_pos (by omega)]
    simp; omega
/-- The bytes from pos on are these. -/
def Ahead (s : ByteArray) (pos : Nat) (zs : List Int) (rest : List UInt8) : Prop := s.data.toList.drop pos = (nums zs).map (fun n => UInt8.ofNat n.toNat) ++ rest
theorem ahead_len {s : ByteArray} {pos : Nat} {zs : List Int} {rest : List UInt8} (h : Ahead s pos zs rest) (hp : pos ≤ s.size) : s.size = pos + (nums zs).length + rest.length := by
  have := congrArg List.length h
  rw [List.length_drop, Array.length_toList, List.length_append, List.length_map] at this
  have e : s.data.size = s.size := rfl
  omega
theorem decode_ahead {s : ByteArray} {pos : Nat} {x : Int} {zs : List Int} {rest : List UInt8} (h : Ahead s pos (x :: zs) rest) (hp : pos ≤ s.size) (hv : validRune x = true) : Utf8.decode s pos = (x.toNat, (encodeRuneZ x).length) := by
  have hl := ahead_len h hp
  have hnl : (nums (x :: zs)).length = (encodeRuneZ x).length + (nums zs).length := by simp [nums]
  rw [decode_N]
  have hd : ∀ k, s.data.toList.getD (pos + k) 0 = (s.data.toList.drop pos).getD k 0 := fun k => by simp [List.getD]
  have hsl : s.data.toList.length = s.size := by rw [Array.length_toList]; rfl
  refine decodeN_enc x hv _ _ _ _ _ ?_ (fun i hi => ?_)
  · omega
  have h4 := (encodeRuneZ_length x).2
  have hg : ((s.data.toList.getD (pos + i) 0).toNat : Int) = (encodeRuneZ x).getD i 0 := by
    rw [hd, h]
    have hby := encodeRuneZ_byte x ((encodeRuneZ x).getD i 0) (by simp [List.getD, List.getElem?_eq_getElem hi])
    have e1 : ((nums (x :: zs)).map (fun n => UInt8.ofNat n.toNat) ++ rest).getD i 0 = UInt8.ofNat ((encodeRuneZ x).getD i 0).toNat := by
      have e2 : nums (x :: zs) = encodeRuneZ x ++ nums zs := by simp [nums]
      rw [e2, List.map_append, List.append_assoc]
      simp only [List.getD]
      rw [List.getElem?_append_left (by rw [List.length_map]; exact hi)]
      simp [List.getElem?_eq_getElem hi]
    rw [e1]
    generalize (encodeRuneZ x).getD i 0 = Y at hby
    simp; omega
  match i, hi, hg with
  | 0, _, hg => simpa using hg
  | 1, _, hg => simpa using hg
  | 2, _, hg => simpa using hg
  | 3, _, hg => simpa using hg
  | (k + 4), hi, _ => omega
theorem ahead_next {s : ByteArray} {pos : Nat} {x : Int} {zs : List Int} {rest : List UInt8} (h : Ahead s pos (x :: zs) rest) : Ahead s (pos + (encodeRuneZ x).length) zs rest := by
  unfold Ahead at h ⊢
  rw [← List.drop_drop, h]
  have e2 : nums (x :: zs) = encodeRuneZ x ++ nums zs := by simp [nums]
  rw [e2, List.map_append, List.append_assoc]
  exact List.drop_left' (by rw [List.length_map])
theorem bad_not {s : ByteArray} {pos : Nat} {x : Int} (hv : validRune x = true) (h : Utf8.decode s pos = (x.toNat, (encodeRuneZ x).length)) : bad s pos = false := by
  unfold bad
  rw [h]
  rw [Bool.eq_false_iff]
  intro hh
  simp at hh
  have hr := valid_range hv
  have : x = 65533 := by omega
  subst this
  rw [len_three (by omega)] at hh
  omega
/-- Reading on behind signs. -/
theorem sc_ahead (s : ByteArray) (rest : List UInt8) : ∀ (zs : List Int) (f pos : Nat), Ahead s pos zs rest → pos ≤ s.size → s.size ≤ pos + f → zs.all validRune = true →
    (sc s f pos).2 = (sc s (f - zs.length) (pos + (nums zs).length)).2 ∧ (sc s f pos).1 = zs.map Int.toNat ++ (sc s (f - zs.length) (pos + (nums zs).length)).1
  | [], f, pos, _, _, _, _ => by simp [nums]
  | x :: zs, f, pos, h, hp, hf, hv => by
    simp only [List.all_cons, Bool.and_eq_true] at hv
    have hd := decode_ahead h hp hv.1
    have hb := bad_not hv.1 hd
    have hl := ahead_len h hp
    have hnl : (nums (x :: zs)).length = (encodeRuneZ x).length + (nums zs).length := by simp [nums]
    have h1 := (encodeRuneZ_length x).1
    obtain ⟨f1, rfl⟩ : ∃ f1, f = f1 + 1 := ⟨f - 1, by omega⟩
    rw [sc_good s f1 pos (by omega) hb, hd]
    have ih := sc_ahead s rest zs f1 (pos + (encodeRuneZ x).length) (ahead_next h) (by omega) (by omega) hv.2
    have e1 : f1 + 1 - (x :: zs).length = f1 - zs.length := by simp
    have e2 : pos + (nums (x :: zs)).length = pos + (encodeRuneZ x).length + (nums zs).length := by omega
    rw [e1, e2]
    exact ⟨ih.1, by rw [List.map_cons, List.cons_append, ← ih.2]⟩
theorem txt_data (zs : List Int) : (txt zs).data.toList = (nums zs).map (fun n => UInt8.ofNat n.toNat) := strOfNums_data _
theorem txt_size (zs : List Int) : (txt zs).size = (nums zs).length := strOfNums_size _
theorem scan_txt (zs : List Int) (hv : zs.all validRune = true) : (scan (txt zs)).2 = none ∧ (scan (txt zs)).1 = zs.map Int.toNat := by
  have h := sc_ahead (txt zs) [] zs (txt zs).size 0 (by unfold Ahead; rw [List.drop_zero, List.append_nil, txt_data]) (by omega) (by omega) hv
  rw [Nat.zero_add, sc_end (txt zs) ((txt zs).size - zs.length) (nums zs).length (by rw [txt_size]; omega)] at h
  exact ⟨h.1, by have := h.2; rwa [List.append_nil] at this⟩
end Go.Proofs.YtiigknimfibdpaaGreatDoor.pt
namespace Go.Proofs.YtiigknimfibdpaaGreatDoor.sg
open Go.RowKit Go.Lib
set_option linter.unusedVariables false
/-- The three rows of signs, by their numbers. -/
def rusL : List Nat := [9472, 9474, 9484, 9488, 9492, 9496, 9500, 9508, 9516, 9524, 9532, 9600, 9604, 9608, 9612, 9616, 9617, 9618, 9619, 8992, 9632, 8729, 8730, 8776, 8804, 8805, 160, 8993, 176, 178, 183, 247, 9552, 9553, 9554, 1105, 9555, 9556, 9557, 9558, 9559, 9560, 9561, 9562, 9563, 9564, 9565, 9566, 9567, 9568, 9569, 1025, 9570, 9571, 9572, 9573, 9574, 9575, 9576, 9577, 9578, 9579, 9580, 169, 1102, 1072, 1073, 1094, 1076, 1077, 1092, 1075, 1093, 1080, 1081, 1082, 1083, 1084, 1085, 1086, 1087, 1103, 1088, 1089, 1090, 1091, 1078, 1074, 1100, 1099, 1079, 1096, 1101, 1097, 1095, 1098, 1070, 1040, 1041, 1062, 1044, 1045, 1060, 1043, 1061, 1048, 1049, 1050, 1051, 1052, 1053, 1054, 1055, 1071, 1056, 1057, 1058, 1059, 1046, 1042, 1068, 1067, 1047, 1064, 1069, 1065, 1063, 1066]
def fraL : List Nat := [9617, 9618, 9619, 9474, 9508, 9569, 9570, 9558, 9557, 9571, 9553, 9559, 9565, 9564, 9563, 9488, 9492, 9524, 9516, 9500, 9472, 9532, 9566, 9567, 9562, 9556, 9577, 9574, 9568, 9552, 9580, 9575, 9576, 9572, 9573, 9561, 9560, 9554, 9555, 9579, 9578, 9496, 9484, 9608, 9604, 9612, 9616, 9600]
def othL : List Nat := [1025, 1105, 1028, 1108, 1031, 1111, 1038, 1118, 176, 8729, 183, 8730, 8470, 164, 9632, 160]
/-- The sign of a byte. -/
def sgn (c : Int) (n : Nat) : Int :=
  if c = 0 ∨ n < 128 then (n : Int)
  else if c = 3 then (if n < 176 then (n : Int) + 912 else if n < 224 then ((fraL.getD (n - 176) 0 : Nat) : Int) else if n < 240 then (n : Int) + 864 else ((othL.getD (n - 240) 0 : Nat) : Int))
  else if c = 2 ∧ n = 164 then 1108 else if c = 2 ∧ n = 166 then 1110 else if c = 2 ∧ n = 167 then 1111 else if c = 2 ∧ n = 173 then 1169
  else if c = 2 ∧ n = 180 then 1028 else if c = 2 ∧ n = 182 then 1030 else if c = 2 ∧ n = 183 then 1031 else if c = 2 ∧ n = 189 then 1168
  else ((rusL.getD (n - 128) 0 : Nat) : Int)
def sgns (c : Int) : List Int := (List.range 256).map (sgn c)
theorem sgns_valid : (sgns 0).all validRune = true ∧ (sgns 1).all validRune = true ∧ (sgns 2).all validRune = true ∧ (sgns 3).all validRune = true := by decide +kernel
theorem sgns_get (c : Int) (n : Nat) (h : n < 256) : (sgns c)[n]? = some (sgn c n) := by
  unfold sgns
  rw [List.getElem?_map, List.getElem?_range h]; rfl
theorem four {c : Int} (h0 : 0 ≤ c) (h1 : c ≤ 3) : c = 0 ∨ c = 1 ∨ c = 2 ∨ c = 3 := by omega
theorem sgn_valid {c : Int} {n : Nat} (h0 : 0 ≤ c) (h1 : c ≤ 3) (hn : n < 256) : validRune (sgn c n) = true := by
  have hm : sgn c n ∈ sgns c := List.mem_of_getElem? (sgns_get c n hn)
  have ⟨a, b, d, e⟩ := sgns_valid
  rcases four h0 h1 with rfl | rfl | rfl | rfl
  · exact List.all_eq_true.1 a _ hm
  · exact List.all_eq_true.1 b _ hm
  · exact List.all_eq_true.1 d _ hm
  · exact List.all_eq_true.1 e _ hm
/-- The byte of a sign; -1. -/
def byFrom (c p : Int) : Nat → Nat → Int
  | 0, _ => -1
  | f + 1, n => if sgn c n = p then (n : Int) else byFrom c p f (n + 1)
def byte (c p : Int) : Int := byFrom c p 256 0
theorem byFrom_cases (c p : Int) : ∀ f n, (byFrom c p f n = -1 ∧ ∀ k, n ≤ k → k < n + f → sgn c k ≠ p) ∨ ∃ k : Nat, byFrom c p f n = (k : Int) ∧ n ≤ k ∧ k < n + f ∧ sgn c k = p
  | 0, n => .inl ⟨rfl, fun k h1 h2 => by omega⟩
  | f + 1, n => by
    unfold byFrom
    by_cases h : sgn c n = p
    · rw [if_pos h]; exact .inr ⟨n, rfl, Nat.le_refl _, by omega, h⟩
    · rw [if_neg h]
      rcases byFrom_cases c p f (n + 1) with ⟨h1, h2⟩ | ⟨k, h1, h2, h3, h4⟩
      · refine .inl ⟨h1, fun k h3 h4 => ?_⟩
        by_cases hk : k = n
        · rw [hk]; exact h
        · exact h2 k (by omega) (by omega)
      · exact .inr ⟨k, h1, by omega, by omega, h4⟩
theorem byte_cases (c p : Int) : (byte c p = -1 ∧ ∀ k, k < 256 → sgn c k ≠ p) ∨ ∃ k : Nat, byte c p = (k : Int) ∧ k < 256 ∧ sgn c k = p := by
  rcases byFrom_cases c p 256 0 with ⟨h1, h2⟩ | ⟨k, h1, h2, h3, h4⟩
  · exact .inl ⟨h1, fun k hk => h2 k (by omega) (by omega)⟩
  · exact .inr ⟨k, h1, by omega, h4⟩
/-- A row of bytes as signs. -/
def sdec (c : Int) (b : List UInt8) : List Int := b.map fun x => sgn c x.toNat
/-- Signs as bytes, or the place in the text of the first that has none. -/
def senc (c : Int) : Nat → List Int → List UInt8 × Option Nat
  | _, [] => ([], none)
  | at', p :: l => if byte c p < 0 then ([], some at') else (UInt8.ofNat (byte c p).toNat :: (senc c (at' + (encodeRuneZ p).length) l).1, (senc c (at' + (encodeRuneZ p).length) l).2)
theorem sdec_valid {c : Int} (h0 : 0 ≤ c) (h1 : c ≤ 3) (b : List UInt8) : (sdec c b).all validRune = true := by
  unfold sdec
  rw [List.all_map, List.all_eq_true]
  intro x _
  exact sgn_valid h0 h1 x.toNat_lt
end Go.Proofs.YtiigknimfibdpaaGreatDoor.sg
namespace Go.Proofs.YtiigknimfibdpaaGreatDoor.sg
open Go.RowKit Go.Lib
set_option linter.unusedVariables false
theorem ret_int {k : IntKind} {a b : Int} (h : a = b) : Ending.returned (.int k a) = .returned (.int k b) := by rw [h]
set_option maxRecDepth 100000 in
set_option maxHeartbeats 1000000 in
theorem nth_any (L : List Nat) (s : ByteArray) (hs : pt.scan s = (L, none)) (hz : s.size ≤ 2000) (n : Nat) (hn : n < L.length) (w : World) :
    Calls Tryz.prog 83 #[.string s, .int .i64 n] w fun e w' => e = .returned (.int .i32 ((L.getD n 0 : Nat) : Int)) ∧ Below w.heap.size w w' := by
  obtain ⟨R, hR⟩ : ∃ R, R = L[n]? := ⟨_, rfl⟩
  have hs1 : (pt.sc s s.size 0).1 = L := by have := congrArg Prod.fst hs; exact this
  have hs2 : (pt.sc s s.size 0).2 = none := by have := congrArg Prod.snd hs; exact this
  have hln : L.length ≤ 2000 := by rw [← hs1]; have := pt.sc_len s s.size 0; omega
  have hRn : Hid (L[n]? = R) := Lib.hid hR.symm
  have hRs : Hid (R = some (L.getD n 0)) := Lib.hid (by rw [hR, List.getElem?_eq_getElem hn]; simp [List.getD, List.getElem?_eq_getElem hn])
  have H1 := Lib.hid hs1; have H2 := Lib.hid hs2
  clear hs hs1 hs2 hR
  generalize L.getD n 0 = V at *
  go_enter Tryz.func83, Tryz.ntmps83
  go_wp2_with fail
  go_loopw [1, 5] (fun m i wr => ∃ (pos f k : Nat), pos ≤ s.size ∧ s.size ≤ pos + f ∧ k ≤ n ∧ m = .int .i64 k ∧ i = .int .i64 pos ∧ (pt.sc s f pos).1[k]? = R ∧ (pt.sc s f pos).2 = none ∧ Below w.heap.size w wr) (fun m _ _ => (RowKit.intOf m).toNat)
  case atStart => exact ⟨0, s.size, n, Nat.zero_le _, by omega, Nat.le_refl _, rfl, rfl, by rw [H1.out]; exact hRn.out, H2.out, Below.refl _ _⟩
  case round =>
    obtain ⟨pos, f, k, hp, hf, hk, rfl, rfl, hg, h2, hB⟩ := hrel
    have HB := Lib.hid hB
    have hpt : pos < s.size := by
      rcases Nat.lt_or_ge pos s.size with h | h
      · exact h
      · rw [pt.sc_end s f pos (by omega), hRs.out] at hg
        simp at hg
    obtain ⟨f1, rfl⟩ : ∃ f1, f = f1 + 1 := ⟨f - 1, by omega⟩
    cases hb : pt.bad s pos with
    | true => rw [pt.sc_bad s (f1 + 1) pos hpt hf hb] at h2; cases h2
    | false =>
      rw [pt.sc_good s f1 pos hpt hb] at hg h2
      have hat := fun w2 => pt.at_any s pos w2 hpt (by omega)
      rw [hb] at hat
      simp only [Bool.false_eq_true, if_false] at hat
      have hw1 := width_pos s pos
      have hw2 := pt.width_fits s pos hpt
      have hr := rune_le s pos
      have HG := Lib.hid hg; have HH2 := Lib.hid h2
      clear hg h2 hb hB
      generalize Utf8.decode s pos = d at *
      have HAT := Lib.hid hat
      clear hat
      have hd0 : ¬ (d.2 : Int) = 0 := by omega
      cases k with
      | zero =>
        have hV : Hid (d.1 = V) := Lib.hid (by have := HG.out; rw [hRs.out] at this; simpa using this)
        go_wp2_with (go_at_call 47; refine (HAT.out _).mono ?_; rintro e1 w1 ⟨rfl, hb1⟩)
        go_ret
        exact ⟨ret_int (by rw [hV.out]), HB.out.trans (hb1.mono HB.out.size)⟩
      | succ k =>
        have hk0 : ((k + 1 : Nat) : Int) = (k : Int) + 1 := by omega
        rw [hk0]
        have hk1 : ((k : Int) + 1 == 0) = false := beq_eq_false_iff_ne.2 (by omega)
        have hd1 : ((d.2 : Int) == 0) = false := beq_eq_false_iff_ne.2 hd0
        clear hk0
        go_wp2_with (go_at_call 47; refine (HAT.out _).mono ?_; rintro e1 w1 ⟨rfl, hb1⟩)
        go_roundw
        case rel => exact ⟨pos + d.2, f1, k, hw2, by omega, by omega, by go_num, by go_num, by have := HG.out; simpa using this, HH2.out, HB.out.trans (hb1.mono HB.out.size)⟩
        case measure => simp [RowKit.intOf]
set_option maxRecDepth 100000 in
set_option maxHeartbeats 2000000 in
theorem sign_low (c : Int) (n : Nat) (w : World) (hn : n < 256) (h : c = 0 ∨ n < 128) : Calls Tryz.prog 55 #[.int .i64 c, .int .u8 n] w fun e w' => e = .returned (.int .i32 (n : Int)) ∧ Below w.heap.size w w' := by
  have h0 : (0 : Int) ≤ (n : Int) := by omega
  have h1 : (n : Int) ≤ 255 := by omega
  by_cases hc : c = 0
  · subst hc
    go_enter Tryz.func55, Tryz.ntmps55
    go_wp2
    go_ret
    exact ⟨rfl, Below.refl _ _⟩
  · have hc1 : (c == 0) = false := beq_eq_false_iff_ne.2 hc
    have h2 : (n : Int) < 128 := by omega
    clear h hc
    go_enter Tryz.func55, Tryz.ntmps55
    go_wp2
    go_ret
    exact ⟨rfl, Below.refl _ _⟩
set_option maxRecDepth 100000 in
set_option maxHeartbeats 2000000 in
theorem sign_three (n : Nat) (w : World) (hn : n < 256) (h : 128 ≤ n) : Calls Tryz.prog 55 #[.int .i64 3, .int .u8 n] w fun e w' => e = .returned (.int .i32 (sgn 3 n)) ∧ Below w.heap.size w w' := by
  have h1 : (n : Int) ≤ 255 := by omega
  have h2 : 128 ≤ (n : Int) := by omega
  by_cases a1 : n < 176
  · have e : Hid (sgn 3 n = (n : Int) + 912) := Lib.hid (by unfold sgn; rw [if_neg (by omega), if_pos rfl, if_pos a1])
    have a2 : (n : Int) < 176 := by omega
    generalize sgn 3 n = S at *
    go_enter Tryz.func55, Tryz.ntmps55
    go_wp2
    go_ret
    exact ⟨ret_int (by rw [e.out]; omega), Below.refl _ _⟩
  by_cases b1 : n < 224
  · obtain ⟨k, hk⟩ : ∃ k, k = n - 176 := ⟨_, rfl⟩
    have e : Hid (sgn 3 n = ((fraL.getD k 0 : Nat) : Int)) := Lib.hid (by unfold sgn; rw [if_neg (by omega), if_pos rfl, if_neg a1, if_pos b1, hk])
    have a2 : ¬ (n : Int) < 176 := by omega
    have a3 : (n : Int) < 224 := by omega
    have hkl : k < fraL.length := by have : fraL.length = 48 := rfl; omega
    have HN := Lib.hid (fun s hs hz w2 => nth_any fraL s hs hz k hkl w2)
    rw [show (k : Int) = (n : Int) - 176 by omega] at HN
    generalize sgn 3 n = S at *
    clear hk hkl a1 b1
    go_enter Tryz.func55, Tryz.ntmps55
    go_wp2_with (go_at_call 83; refine (HN.out _ (by decide +kernel) (by decide +kernel) _).mono ?_; rintro e1 w1 ⟨rfl, hb1⟩)
    go_ret
    exact ⟨ret_int (by rw [e.out]; rfl), hb1⟩
  by_cases d1 : n < 240
  · have e : Hid (sgn 3 n = (n : Int) + 864) := Lib.hid (by unfold sgn; rw [if_neg (by omega), if_pos rfl, if_neg a1, if_neg b1, if_pos d1])
    have a2 : ¬ (n : Int) < 176 := by omega
    have a3 : ¬ (n : Int) < 224 := by omega
    have a4 : (n : Int) < 240 := by omega
    generalize sgn 3 n = S at *
    clear a1 b1 d1 h
    go_enter Tryz.func55, Tryz.ntmps55
    go_wp2
    go_ret
    exact ⟨ret_int (by rw [e.out]; omega), Below.refl _ _⟩
  · obtain ⟨k, hk⟩ : ∃ k, k = n - 240 := ⟨_, rfl⟩
    have e : Hid (sgn 3 n = ((othL.getD k 0 : Nat) : Int)) := Lib.hid (by unfold sgn; rw [if_neg (by omega), if_pos rfl, if_neg a1, if_neg b1, if_neg d1, hk])
    have a2 : ¬ (n : Int) < 176 := by omega
    have a3 : ¬ (n : Int) < 224 := by omega
    have a4 : ¬ (n : Int) < 240 := by omega
    have hkl : k < othL.length := by have : othL.length = 16 := rfl; omega
    have HN := Lib.hid (fun s hs hz w2 => nth_any othL s hs hz k hkl w2)
    rw [show (k : Int) = (n : Int) - 240 by omega] at HN
    generalize sgn 3 n = S at *
    clear hk hkl a1 b1 d1 h
    go_enter Tryz.func55, Tryz.ntmps55
    go_wp2_with (go_at_call 83; refine (HN.out _ (by decide +kernel) (by decide +kernel) _).mono ?_; rintro e1 w1 ⟨rfl, hb1⟩)
    go_ret
    exact ⟨ret_int (by rw [e.out]; rfl), hb1⟩
/-- Where a byte stands among those that differ. -/
theorem sgn_rus (c : Int) (n : Nat) (hc : c = 1 ∨ c = 2) (h : 128 ≤ n) (hx : c = 2 → n ≠ 164 ∧ n ≠ 166 ∧ n ≠ 167 ∧ n ≠ 173 ∧ n ≠ 180 ∧ n ≠ 182 ∧ n ≠ 183 ∧ n ≠ 189) : sgn c n = ((rusL.getD (n - 128) 0 : Nat) : Int) := by
  unfold sgn
  rw [if_neg (by omega), if_neg (by omega), if_neg (by omega), if_neg (by omega), if_neg (by omega), if_neg (by omega), if_neg (by omega), if_neg (by omega), if_neg (by omega), if_neg (by omega)]
set_option maxRecDepth 100000 in
set_option maxHeartbeats 2000000 in
theorem sign_one (n : Nat) (w : World) (hn : n < 256) (h : 128 ≤ n) : Calls Tryz.prog 55 #[.int .i64 1, .int .u8 n] w fun e w' => e = .returned (.int .i32 (sgn 1 n)) ∧ Below w.heap.size w w' := by
  have h1 : (n : Int) ≤ 255 := by omega
  have h2 : 128 ≤ (n : Int) := by omega
  obtain ⟨k, hk⟩ : ∃ k, k = n - 128 := ⟨_, rfl⟩
  have e : Hid (sgn 1 n = ((rusL.getD k 0 : Nat) : Int)) := Lib.hid (by rw [sgn_rus 1 n (.inl rfl) h (fun h => by cases h), hk])
  have hkl : k < rusL.length := by have : rusL.length = 128 := rfl; omega
  have HN := Lib.hid (fun s hs hz w2 => nth_any rusL s hs hz k hkl w2)
  rw [show (k : Int) = (n : Int) - 128 by omega] at HN
  generalize sgn 1 n = S at *
  clear hk hkl h
  go_enter Tryz.func55, Tryz.ntmps55
  go_wp2_with (go_at_call 83; refine (HN.out _ (by decide +kernel) (by decide +kernel) _).mono ?_; rintro e1 w1 ⟨rfl, hb1⟩)
  go_ret
  exact ⟨ret_int (by rw [e.out]; rfl), hb1⟩
set_option maxRecDepth 100000 in
set_option maxHeartbeats 2000000 in
theorem sign_two (n : Nat) (w : World) (hn : n < 256) (h : 128 ≤ n) (hx : n ≠ 164 ∧ n ≠ 166 ∧ n ≠ 167 ∧ n ≠ 173 ∧ n ≠ 180 ∧ n ≠ 182 ∧ n ≠ 183 ∧ n ≠ 189) : Calls Tryz.prog 55 #[.int .i64 2, .int .u8 n] w fun e w' => e = .returned (.int .i32 (sgn 2 n)) ∧ Below w.heap.size w w' := by
  have h1 : (n : Int) ≤ 255 := by omega
  have h2 : 128 ≤ (n : Int) := by omega
  obtain ⟨k, hk⟩ : ∃ k, k = n - 128 := ⟨_, rfl⟩
  have e : Hid (sgn 2 n = ((rusL.getD k 0 : Nat) : Int)) := Lib.hid (by rw [sgn_rus 2 n (.inr rfl) h (fun _ => hx), hk])
  have hkl : k < rusL.length := by have : rusL.length = 128 := rfl; omega
  have HN := Lib.hid (fun s hs hz w2 => nth_any rusL s hs hz k hkl w2)
  rw [show (k : Int) = (n : Int) - 128 by omega] at HN
  have x1 : ((n : Int) == 164) = false := beq_eq_false_iff_ne.2 (by omega)
  have x2 : ((n : Int) == 166) = false := beq_eq_false_iff_ne.2 (by omega)
  have x3 : ((n : Int) == 167) = false := beq_eq_false_iff_ne.2 (by omega)
  have x4 : ((n : Int) == 173) = false := beq_eq_false_iff_ne.2 (by omega)
  have x5 : ((n : Int) == 180) = false := beq_eq_false_iff_ne.2 (by omega)
  have x6 : ((n : Int) == 182) = false := beq_eq_false_iff_ne.2 (by omega)
  have x7 : ((n : Int) == 183) = false := beq_eq_false_iff_ne.2 (by omega)
  have x8 : ((n : Int) == 189) = false := beq_eq_false_iff_ne.2 (by omega)
  generalize sgn 2 n = S at *
  clear hk hkl h hx
  go_enter Tryz.func55, Tryz.ntmps55
  go_wp2_with (go_at_call 83; refine (HN.out _ (by decide +kernel) (by decide +kernel) _).mono ?_; rintro e1 w1 ⟨rfl, hb1⟩)
  go_ret
  exact ⟨ret_int (by rw [e.out]; rfl), hb1⟩
set_option maxRecDepth 100000 in
set_option maxHeartbeats 2000000 in
theorem sign_two_x (n : Nat) (S : Int) (w : World) (h : (n = 164 ∧ S = 1108) ∨ (n = 166 ∧ S = 1110) ∨ (n = 167 ∧ S = 1111) ∨ (n = 173 ∧ S = 1169) ∨ (n = 180 ∧ S = 1028) ∨ (n = 182 ∧ S = 1030) ∨ (n = 183 ∧ S = 1031) ∨ (n = 189 ∧ S = 1168)) : Calls Tryz.prog 55 #[.int .i64 2, .int .u8 n] w fun e w' => e = .returned (.int .i32 S) ∧ Below w.heap.size w w' := by
  rcases h with ⟨rfl, rfl⟩ | ⟨rfl, rfl⟩ | ⟨rfl, rfl⟩ | ⟨rfl, rfl⟩ | ⟨rfl, rfl⟩ | ⟨rfl, rfl⟩ | ⟨rfl, rfl⟩ | ⟨rfl, rfl⟩
  all_goals
    go_enter Tryz.func55, Tryz.ntmps55
    go_wp2
    go_ret
    exact ⟨rfl, Below.refl _ _⟩
theorem sign_any (c : Int) (n : Nat) (w : World) (h0 : 0 ≤ c) (h1 : c ≤ 3) (hn : n < 256) : Calls Tryz.prog 55 #[.int .i64 c, .int .u8 n] w fun e w' => e = .returned (.int .i32 (sgn c n)) ∧ Below w.heap.size w w' := by
  by_cases hl : c = 0 ∨ n < 128
  · have e : sgn c n = (n : Int) := by unfold sgn; rw [if_pos hl]
    rw [e]; exact sign_low c n w hn hl
  · rcases four h0 h1 with rfl | rfl | rfl | rfl
    · exact absurd (.inl rfl) hl
    · exact sign_one n w hn (by omega)
    · by_cases hx : n ≠ 164 ∧ n ≠ 166 ∧ n ≠ 167 ∧ n ≠ 173 ∧ n ≠ 180 ∧ n ≠ 182 ∧ n ≠ 183 ∧ n ≠ 189
      · exact sign_two n w hn (by omega) hx
      · refine sign_two_x n (sgn 2 n) w ?_
        have hh : n = 164 ∨ n = 166 ∨ n = 167 ∨ n = 173 ∨ n = 180 ∨ n = 182 ∨ n = 183 ∨ n = 189 := by omega
        rcases hh with rfl | rfl | rfl | rfl | rfl | rfl | rfl | rfl <;> decide
    · exact sign_three n w hn (by omega)
end Go.Proofs.YtiigknimfibdpaaGreatDoor.sg
