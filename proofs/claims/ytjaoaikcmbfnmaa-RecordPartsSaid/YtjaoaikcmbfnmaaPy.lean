/- RecordParts at a claim's values. -/
import Derived.Test.YtjaoaikcmbfnmaaPt
namespace Go.Proofs.Ytjaoaikcmbfnmaa
open Go.RowKit
theorem Parts_walk (A0 : Option Addr) (n0 c0 : Nat) (l0 : List Rv) (l1 : List UInt8) (A2 : Option Addr) (n2 c2 : Nat) (l2 : List UInt8) (w : World) (hr : Rs w w.heap.size A0 n0 c0 l0) (hC : l1.length = 32) (hd : Rd w w.heap.size A2 n2 c2 l2) :
    Calls Try.prog 6 #[.slice A0 n0 c0, .agg (cs8 l1).toArray, .slice A2 n2 c2] w fun e w' => e = .returned (.bool true) ∧ Below w.heap.size w w' :=
  Parts_any A0 A2 n0 c0 n2 c2 l0 l1 l2 w hr hC hd
end Go.Proofs.Ytjaoaikcmbfnmaa
