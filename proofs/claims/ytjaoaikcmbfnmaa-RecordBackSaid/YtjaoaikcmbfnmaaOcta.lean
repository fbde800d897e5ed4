/- The small functions of octet: sizes, leads. -/
import Derived.Test.YtjaoaikcmbfnmaaProg
import Derived.Test.YtjaoaikcmbfnmaaShelf
import Derived.WalkKit
import Derived.WalkSpells
import Derived.WalkLawsBesides
import Derived.Lib.Hide
import Derived.Deep.DeepFit
namespace Go.Proofs.Ytjaoaikcmbfnmaa
open Go.RowKit

theorem bitLen_le64 (n : Nat) (h : n < 18446744073709551616) : Lib.bitLen n ≤ 64 := Lib.bitLen_le n 64 (by omega) (by omega)

def numSize (n : Nat) : Nat := min (max ((Lib.bitLen n + 6) / 7) 1) 9

theorem Oret_int {k : IntKind} {a b : Int} (h : a = b) : Ending.returned (.int k a) = .returned (.int k b) := by rw [h]

set_option maxHeartbeats 400000 in
theorem wordSize_any (n : Int) (w : World) :
    Calls Try.prog 32 #[.int .i64 n] w fun e w' => e = .returned (.int .i64 (min (max n 1) 8)) ∧ w = w' := by
  go_enter Try.func32, Try.ntmps32
  go_wp2
  go_ret
  exact ⟨rfl, rfl⟩

set_option maxHeartbeats 400000 in
theorem numberSize_any (n : Int) (w : World) (h0 : 0 ≤ n) (h1 : n ≤ 18446744073709551615) :
    Calls Try.prog 40 #[.int .u64 n] w fun e w' => e = .returned (.int .i64 (numSize n.toNat)) ∧ w = w' := by
  have hb := bitLen_le64 n.toNat (by omega)
  go_enter Try.func40, Try.ntmps40
  go_wp2_with (go_at_call 49; refine (Try.bits_Len64 _ _ (by omega) (by omega)).mono ?_; rintro e w' ⟨rfl, rfl⟩)
  go_ret
  exact ⟨Oret_int (by unfold numSize; omega), rfl⟩

def leadOf (k : Nat) : Nat := 255 - 255 / 2 ^ min (k - 1) 8

theorem lead_bits : ∀ m : Fin 9, bits BinOp.xor IntKind.u8 IntKind.u8.max (255 / 2 ^ m.val) = ((255 - 255 / 2 ^ m.val : Nat) : Int) := by decide +kernel

set_option maxHeartbeats 400000 in
theorem lead_any (n : Int) (w : World) (h0 : -9223372036854775807 ≤ n) (h1 : n ≤ 9223372036854775807) :
    Calls Try.prog 48 #[.int .i64 n] w fun e w' => e = .returned (.int .u8 (leadOf n.toNat)) ∧ w = w' := by
  have hm : (0 : Int) ≤ max (n - 1) 0 := by omega
  go_enter Try.func48, Try.ntmps48
  go_wp2
  go_ret
  refine ⟨Oret_int ?_, rfl⟩
  have h := lead_bits ⟨min (n.toNat - 1) 8, by omega⟩
  rw [show (max (n - 1) 0).toNat = n.toNat - 1 from by omega]
  exact h
end Go.Proofs.Ytjaoaikcmbfnmaa
