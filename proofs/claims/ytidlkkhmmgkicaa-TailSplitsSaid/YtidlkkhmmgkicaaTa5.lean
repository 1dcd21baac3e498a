/- Layer 12: `of`: a tail as the document has it. -/
import Derived.Test.YtidlkkhmmgkicaaTa4
namespace Go.Proofs.Ytidlkkhmmgkicaa.ta
open Go.RowKit Go.Lib
open Go.Proofs.Ytidlkkhmmgkicaa.un (wrap64)
set_option linter.unusedVariables false
set_option maxRecDepth 100000 in
set_option maxHeartbeats 4000000 in
theorem of_any (a b c d e : ByteArray) (tr g : Nat) (w : World) (ht : tr < 256) (hg : g < 256) : Calls Try.prog 19 #[.agg #[.string a, .string b, .string c, .string d, .string e, .int .u8 (tr : Int), .int .u8 (g : Int)]] w fun r w' => r = .returned (.agg #[.string a, .string b, .string c, .string d, .string e, .int .i64 (tr : Int), .int .i64 (g : Int)]) ∧ Below w.heap.size w w' := by
  have k1 : IntKind.i64.wrap (tr : Int) = (tr : Int) := wrap64 (by omega) (by omega)
  have k2 : IntKind.i64.wrap (g : Int) = (g : Int) := wrap64 (by omega) (by omega)
  have HB : Hid (∀ x y, Below w.heap.size w ((w.alloc x).alloc y)) := Lib.hid (fun x y => ((Below.refl _ _).alloc (Nat.le_refl _) _).alloc (by rw [alloc_size]; omega) _)
  clear ht hg
  generalize (tr : Int) = T at *
  generalize (g : Int) = G at *
  go_enter Try.func19, Try.ntmps19
  go_wp2_with fail
  (try simp only [Exit.inBlock, Exit.then])
  refine bodyPost_ret (v := .agg #[.string a, .string b, .string c, .string d, .string e, .int .i64 T, .int .i64 G]) (by simp [results, Try.results19, go_sem]) rfl ⟨rfl, ?_⟩
  exact HB.out _ _
end Go.Proofs.Ytidlkkhmmgkicaa.ta
