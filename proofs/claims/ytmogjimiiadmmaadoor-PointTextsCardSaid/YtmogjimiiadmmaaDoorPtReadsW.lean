/- The walk of the law PointReads of layer 2. -/
import Derived.Test.YtmogjimiiadmmaaDoorPt12
import Derived.Deep.RegionHeld3
import Derived.Deep.DeepCutAuto
namespace Go.Proofs.YtmogjimiiadmmaaDoor.pt
open Go.RowKit Go.Lib
set_option linter.unusedVariables false
theorem fault_none (w : World) : Calls Tryd.prog 22 #[.int .i64 (-1)] w fun x w' => x = .returned (.agg #[.int .i64 0, .int .i64 0]) ∧ Below w.heap.size w w' := fault_any (-1) w
theorem fault_at (A : Nat) (w : World) : Calls Tryd.prog 22 #[.int .i64 A] w fun x w' => x = .returned (.agg #[.int .i64 2, .int .i64 A]) ∧ Below w.heap.size w w' := by
  have h := fault_any (A : Int) w
  rwa [if_neg (by omega), if_neg (by omega)] at h
/-- What holds while the law compares. -/
structure Gt (w : World) (b : Nat) (q q2 : Option Addr) (n d d2 : Nat) (zs : List Int) (x y : Int) (W : World) : Prop where
  r1 : RowI W q n d zs
  r2 : RowI W q2 n d2 zs
  t : Tabs W
  f : F2 W b x y
  bel : Below w.heap.size w W
theorem Gt.below {w : World} {b : Nat} {q q2 : Option Addr} {n d d2 : Nat} {zs : List Int} {x y : Int} {W W' : World} (h : Gt w b q q2 n d d2 zs x y W) (hb : Below W.heap.size W W') : Gt w b q q2 n d d2 zs x y W' :=
  ⟨h.r1.below hb, h.r2.below hb, h.t.below hb, h.f.below hb h.f.lt, h.bel.trans (hb.mono h.bel.size)⟩
theorem sc_place (s : ByteArray) : ∀ f pos A, (sc s f pos).2 = some A → A < s.size
  | 0, pos, A, h => by simp [sc] at h
  | f + 1, pos, A, h => by
    by_cases hp : pos < s.size
    · cases hb : bad s pos with
      | true => simp [sc, hp, hb] at h; omega
      | false =>
        rw [sc_good s f pos hp hb] at h
        exact sc_place s f _ A h
    · rw [sc_end s (f + 1) pos hp] at h; cases h
end Go.Proofs.YtmogjimiiadmmaaDoor.pt
