/- RecordBound at a claim's values. -/
import Derived.Test.YtjaoaikcmbfnmaaBq
import Derived.Test.YtjaoaikcmbfnmaaRr
namespace Go.Proofs.Ytjaoaikcmbfnmaa
open Go.RowKit
theorem Bound_walk (x : Rv) (C D : List UInt8) (i b : Int) (w : World) (hx : x.ok w w.heap.size) (hC : C.length = 32) (hD : D.length = 32) (_hi0 : -9223372036854775808 ≤ i) (_hi1 : i ≤ 9223372036854775807) (hb0 : 0 ≤ b) (hb1 : b ≤ 255) :
    Calls Try.prog 5 #[.agg x.cells.toArray, .agg (cs8 C).toArray, .agg (cs8 D).toArray, .int .i64 i, .int .u8 b] w fun e w' => e = .returned (.bool true) ∧ Below w.heap.size w w' := by
  have h := Bound_all x.A x.d.length x.c x.d C D x.k (UInt8.ofNat b.toNat) i w hx hC hD
  have hb : ((UInt8.ofNat b.toNat).toNat : Int) = b := by
    have : (UInt8.ofNat b.toNat).toNat = b.toNat := by simp; omega
    rw [this, Int.toNat_of_nonneg hb0]
  rw [hb] at h
  exact h
end Go.Proofs.Ytjaoaikcmbfnmaa
