/- RecordBack at a claim's values. -/
import Derived.Test.YtjaoaikcmbfnmaaBg
namespace Go.Proofs.Ytjaoaikcmbfnmaa
open Go.RowKit
theorem Back_walk (A0 : Option Addr) (n0 c0 : Nat) (l0 : List Rv) (l1 : List UInt8) (a2 : Int) (w : World) (hr : Rs w w.heap.size A0 n0 c0 l0) (hC : l1.length = 32) (_h0 : -9223372036854775808 ≤ a2) (_h1 : a2 ≤ 9223372036854775807) :
    Calls Try.prog 4 #[.slice A0 n0 c0, .agg (cs8 l1).toArray, .int .i64 a2] w fun e w' => e = .returned (.bool true) ∧ Below w.heap.size w w' :=
  Back_any A0 n0 c0 l0 l1 a2 w hr hC
end Go.Proofs.Ytjaoaikcmbfnmaa
