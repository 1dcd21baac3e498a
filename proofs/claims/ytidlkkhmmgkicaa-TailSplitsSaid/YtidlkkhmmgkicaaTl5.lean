/- The landed tail: Split: a contract; what the walks ask. -/
import Derived.Test.YtidlkkhmmgkicaaTl4
import Derived.Test.YtidlkkhmmgkicaaOct5
namespace Go.Proofs.Ytidlkkhmmgkicaa.tl
open Go.RowKit Go.Lib
open Go.Proofs.Ytidlkkhmmgkicaa.un (bs bs_list bs_size bs_app bs_back size_list bt bt_lt bt_get index_bt wrap64 data_app drop_at drop_end u0)
open Go.Proofs.Ytidlkkhmmgkicaa.ta Go.Proofs.Ytidlkkhmmgkicaa.ob Go.Proofs.Ytidlkkhmmgkicaa.bk
set_option linter.unusedVariables false
theorem isT_sp (s : ByteArray) : isT (s.extract (s.size - 128) s.size) = spN s := by
  unfold isT spN
  by_cases h : 128 ≤ s.size
  · have hz : (s.extract (s.size - 128) s.size).size = 128 := by rw [ByteArray.size_extract]; omega
    rw [decide_eq_true h, decide_eq_true hz, Bool.true_and, Bool.true_and]
    have e : (s.extract (s.size - 128) s.size).extract 0 3 = s.extract (s.size - 128) (s.size - 128 + 3) := by
      rw [ByteArray.extract_extract, Nat.add_zero, Nat.min_eq_left (by omega)]
    rw [e]
  · have hz : ¬ (s.extract (s.size - 128) s.size).size = 128 := by rw [ByteArray.size_extract]; omega
    rw [decide_eq_false h, decide_eq_false hz, Bool.false_and, Bool.false_and]
theorem paV_agg (b : ByteArray) : ∃ a c d e f : ByteArray, ∃ t g : Int, paV b = .agg #[.string a, .string c, .string d, .string e, .string f, .int .u8 t, .int .u8 g] := by
  unfold paV
  split
  · exact ⟨_, _, _, _, _, _, _, rfl⟩
  · exact ⟨_, _, _, _, _, _, _, rfl⟩
set_option maxRecDepth 100000 in
set_option maxHeartbeats 2000000 in
theorem split_any (s : ByteArray) (w : World) (hs : s.size ≤ 4000) : Calls Try.prog 21 #[.string s] w fun e w' => e = .returned (.tuple #[.string (spA s), .string (spB s)]) ∧ Below w.heap.size w w' := by
  have HP := Lib.hid (fun W => parse_any (s.extract (s.size - 128) s.size) W (by rw [ByteArray.size_extract]; omega))
  rw [isT_sp] at HP
  obtain ⟨a, c, d, e, f, t, g, hv⟩ := paV_agg (s.extract (s.size - 128) s.size)
  rw [hv] at HP
  clear hv
  unfold spA spB
  have x1 : ∀ wx, (Instr.slice 9 (.string s) (some (.int .i64 ((s.size - 128 : Nat) : Int))) none none).run Try.prog wx = .ok (.string (s.extract (s.size - 128) s.size)) wx := fun wx => by
    rw [run_slice_string_l wx 9 s Try.underlying9 .i64 ((s.size - 128 : Nat) : Int) (by omega) (by omega)]
    rfl
  have x2 : ∀ wx, (Instr.slice 9 (.string s) none (some (.int .i64 ((s.size - 128 : Nat) : Int))) none).run Try.prog wx = .ok (.string (s.extract 0 (s.size - 128))) wx := fun wx => by
    rw [run_slice_string_h wx 9 s Try.underlying9 .i64 ((s.size - 128 : Nat) : Int) (by omega) (by omega)]
    rfl
  have e1 : IntKind.i64.wrap ((s.size : Int) - 128) = (s.size : Int) - 128 := wrap64 (by omega) (by omega)
  by_cases h : 128 ≤ s.size
  · have hN : ((s.size - 128 : Nat) : Int) = (s.size : Int) - 128 := by omega
    rw [hN] at x1 x2
    have h0 : ¬ ((s.size : Int) - 128 < 0) := by omega
    generalize s.extract (s.size - 128) s.size = T at *
    generalize s.extract 0 (s.size - 128) = U at *
    obtain ⟨A, hA⟩ : ∃ A : Int, A = (s.size : Int) - 128 := ⟨_, rfl⟩
    have e2 : IntKind.i64.wrap ((s.size : Int) - 128) = A := by rw [hA]; exact e1
    have e3 : max A 0 = A := by omega
    rw [← hA] at x1 x2
    clear h hN hA h0 e1
    cases hb : spN s with
    | true =>
      rw [hb] at HP
      rw [if_pos rfl, if_pos rfl]
      clear hb
      go_enter Try.func21, Try.ntmps21
      go_wp2_with (go_at_call 18; refine (HP.out _).mono ?_; rintro e1 w1 ⟨rfl, hb1⟩)
      go_quiet (fail)
      go_wp2
      go_ret2
      exact ⟨rfl, below_drewN (hb1.alloc hb1.size _) _⟩
    | false =>
      rw [hb] at HP
      rw [if_neg (by simp), if_neg (by simp)]
      clear hb
      go_enter Try.func21, Try.ntmps21
      go_wp2_with (go_at_call 18; refine (HP.out _).mono ?_; rintro e1 w1 ⟨rfl, hb1⟩)
      go_ret2
      exact ⟨rfl, hb1.alloc hb1.size _⟩
  · have hN : ((s.size - 128 : Nat) : Int) = 0 := by omega
    rw [hN] at x1 x2
    have h0 : (s.size : Int) - 128 < 0 := by omega
    have hb : spN s = false := by unfold spN; rw [decide_eq_false h]; rfl
    generalize s.extract (s.size - 128) s.size = T at *
    rw [hb] at HP
    rw [hb, if_neg (by simp), if_neg (by simp)]
    obtain ⟨A, hA⟩ : ∃ A : Int, A = (s.size : Int) - 128 := ⟨_, rfl⟩
    have e2 : IntKind.i64.wrap ((s.size : Int) - 128) = A := by rw [hA]; exact e1
    have e3 : max A 0 = 0 := by omega
    clear h hN hb x2 hA h0 e1
    go_enter Try.func21, Try.ntmps21
    go_wp2_with (go_at_call 18; refine (HP.out _).mono ?_; rintro e1 w1 ⟨rfl, hb1⟩)
    go_ret2
    exact ⟨rfl, hb1.alloc hb1.size _⟩
/-- What the walks ask of the landed tail. -/
theorem tl_land : Tl (fun _ => True) :=
  ⟨fun _ _ _ _ => trivial, fun w _ => oct.Awake_any w, fun s w _ h => parse_any s w h, fun s w _ h => split_any s w h,
   fun a b c d e tr g w _ ht _ ha hb hc hd he => check_any a b c d e tr g w ht ha hb hc hd he,
   fun a b c d e tr g w _ ht hg ha hb hc hd he => print_any a b c d e tr g w ht hg ha hb hc hd he⟩
end Go.Proofs.Ytidlkkhmmgkicaa.tl
