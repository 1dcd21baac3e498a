/- Numbers read from a new reader of just their bytes: contracts. -/
import Derived.Test.YtkhcmgnempjjcaaOct7
namespace Go.Proofs.Ytkhcmgnempjjcaa
open Go.RowKit
set_option linter.unusedVariables false
theorem rbig_full (w : World) (b : Nat) (t : ByteArray) (z : Int) (m : Nat) (bs : Int) (V : Int) (h : Rd w b t 0 bs 0 0) (h0 : -9223372036854775808 ≤ z) (h1 : z ≤ 9223372036854775807) (hm : min (max z 0) 8 = m) (hl : t.size = m) (hV : ((num t.data.toList : Nat) : Int) = V) :
    Calls Try.prog 17 #[.pointer (some ⟨b, 0, none⟩), .int .i64 z] w fun e' w' => e' = .returned (.int .u64 V) ∧ Rd w' b t m bs 0 0 ∧ Upd b w w' := by
  have ht := take_ok w b t 0 m m bs 0 h (by omega) (Nat.le_refl _) (by unfold maxLen; omega)
  rw [ext_all t m hl.symm, Nat.zero_add] at ht
  rw [← hV]
  exact rbig_of _ z m t (fun w' => Rd w' b t m bs 0 0 ∧ Upd b w w') w h0 h1 hm (by omega) ht
theorem rsmall_full (w : World) (b : Nat) (t : ByteArray) (z : Int) (m : Nat) (bs : Int) (V : Int) (h : Rd w b t 0 bs 0 0) (h0 : -9223372036854775808 ≤ z) (h1 : z ≤ 9223372036854775807) (hm : min (max z 0) 8 = m) (hl : t.size = m) (hV : ((num t.data.toList.reverse : Nat) : Int) = V) :
    Calls Try.prog 18 #[.pointer (some ⟨b, 0, none⟩), .int .i64 z] w fun e' w' => e' = .returned (.int .u64 V) ∧ Rd w' b t m bs 0 0 ∧ Upd b w w' := by
  have ht := take_ok w b t 0 m m bs 0 h (by omega) (Nat.le_refl _) (by unfold maxLen; omega)
  rw [ext_all t m hl.symm, Nat.zero_add] at ht
  rw [← hV]
  exact rsmall_of _ z m t (fun w' => Rd w' b t m bs 0 0 ∧ Upd b w w') w h0 h1 hm (by omega) ht
end Go.Proofs.Ytkhcmgnempjjcaa
