/- The walk of the law RunOvers of layer 4, of any pieces. -/
import Derived.Test.YtiokdeomdeenbaaDoorTsJ
namespace Go.Proofs.YtiokdeomdeenbaaDoor.tb
open Go.RowKit Go.Lib
set_option linter.unusedVariables false
set_option maxRecDepth 100000 in
set_option maxHeartbeats 4000000 in
theorem overs_walk (A0 A1 A2 : Option Addr) (n0 c0 n1 c1 n2 c2 : Nat) (l0 l1 l2 : List Pce) (code p : Int) (w : World) (h0 : RowC w A0 n0 c0 l0) (h1 : RowC w A1 n1 c1 l1) (h2 : RowC w A2 n2 c2 l2)
    (m0 : n0 ≤ 9223372036854775807) (m1 : n1 ≤ 9223372036854775807) (m2 : n2 ≤ 9223372036854775807) (hK : pt.Tabs w)
    (g0 : -9223372036854775808 ≤ code) (g1 : code ≤ 9223372036854775807) (g2 : -2147483648 ≤ p) (g3 : p ≤ 2147483647) :
    Calls Tryd.prog 5 #[.slice A0 n0 c0, .slice A1 n1 c1, .slice A2 n2 c2, .int .i64 code, .int .i32 p] w fun e w' => e = .returned (.bool true) ∧ Below w.heap.size w w' := by
  have T := tb.tab
  have HL0 := fun w2 h2 => Light_any A0 n0 c0 l0 w2 h2 m0
  have HL1 := fun w2 h2 => Light_any A1 n1 c1 l1 w2 h2 m1
  have HL2 := fun w2 h2 => Light_any A2 n2 c2 l2 w2 h2 m2
  have HA0 := Lib.hid h0; have HA1 := Lib.hid h1; have HA2 := Lib.hid h2; have HK := Lib.hid hK; have HT := Lib.hid T
  cases t0 : light l0 with
  | false =>
    rw [t0] at HL0
    have HL0 := Lib.hid HL0
    clear h0 h1 h2 hK T
    go_enter Tryd.func5, Tryd.ntmps5
    go_wp2_with (first | (go_at_call 12; (with_reducible refine (HL0.out _ HA0.out).mono ?_); rintro e1 w1 ⟨rfl, hb1⟩; have D1 := Lib.hid hb1; clear hb1) | (go_at_call 13; refine (HT.out.awake _ (HT.out.stay _ _ HK.out D1.out)).mono ?_; rintro e9 w9 ⟨rfl, hb9⟩))
    go_ret
    exact ⟨rfl, D1.out.trans (hb9.mono D1.out.size)⟩
  | true =>
    cases t1 : light l1 with
    | false =>
      rw [t0] at HL0
      rw [t1] at HL1
      have HL0 := Lib.hid HL0
      have HL1 := Lib.hid HL1
      clear h0 h1 h2 hK T
      go_enter Tryd.func5, Tryd.ntmps5
      go_wp2_with (first | (go_at_call 12; (with_reducible refine (HL0.out _ HA0.out).mono ?_); rintro e1 w1 ⟨rfl, hb1⟩; have D1 := Lib.hid hb1; clear hb1) | (go_at_call 12; (with_reducible refine (HL1.out _ (HA1.out.below D1.out)).mono ?_); rintro e2 w2 ⟨rfl, hb2⟩; have D2 := Lib.hid (D1.out.trans (hb2.mono D1.out.size)); clear hb2) | (go_at_call 13; refine (HT.out.awake _ (HT.out.stay _ _ HK.out D2.out)).mono ?_; rintro e9 w9 ⟨rfl, hb9⟩))
      go_ret
      exact ⟨rfl, D2.out.trans (hb9.mono D2.out.size)⟩
    | true =>
      cases t2 : light l2 with
      | false =>
        rw [t0] at HL0
        rw [t1] at HL1
        rw [t2] at HL2
        have HL0 := Lib.hid HL0
        have HL1 := Lib.hid HL1
        have HL2 := Lib.hid HL2
        clear h0 h1 h2 hK T
        go_enter Tryd.func5, Tryd.ntmps5
        go_wp2_with (first | (go_at_call 12; (with_reducible refine (HL0.out _ HA0.out).mono ?_); rintro e1 w1 ⟨rfl, hb1⟩; have D1 := Lib.hid hb1; clear hb1) | (go_at_call 12; (with_reducible refine (HL1.out _ (HA1.out.below D1.out)).mono ?_); rintro e2 w2 ⟨rfl, hb2⟩; have D2 := Lib.hid (D1.out.trans (hb2.mono D1.out.size)); clear hb2) | (go_at_call 12; (with_reducible refine (HL2.out _ (HA2.out.below D2.out)).mono ?_); rintro e3 w3 ⟨rfl, hb3⟩; have D3 := Lib.hid (D2.out.trans (hb3.mono D2.out.size)); clear hb3) | (go_at_call 13; refine (HT.out.awake _ (HT.out.stay _ _ HK.out D3.out)).mono ?_; rintro e9 w9 ⟨rfl, hb9⟩))
        go_ret
        exact ⟨rfl, D3.out.trans (hb9.mono D3.out.size)⟩
      | true => exact overs_good A0 A1 A2 n0 c0 n1 c1 n2 c2 l0 l1 l2 code p w h0 h1 h2 m0 m1 m2 hK g0 g1 g2 g3 t0 t1 t2
end Go.Proofs.YtiokdeomdeenbaaDoor.tb
