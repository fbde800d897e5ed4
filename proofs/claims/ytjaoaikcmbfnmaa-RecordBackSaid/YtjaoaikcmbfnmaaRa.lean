/- record: content, Next, Check, Equal, kit's Record, Size, Bytes. -/
import Derived.Test.YtjaoaikcmbfnmaaRc
import Derived.Test.YtjaoaikcmbfnmaaReg
namespace Go.Proofs.Ytjaoaikcmbfnmaa
set_option maxRecDepth 8192
set_option linter.unusedSimpArgs false
set_option linter.unusedVariables false
open Go.RowKit

theorem ofNat_toNat (k : UInt8) : UInt8.ofNat ((k.toNat : Int)).toNat = k := by simp
theorem Rd.top {w : World} {n c : Nat} {A : Option Addr} {l : List UInt8} (h : Rd w w.heap.size A n c l) {w' : World} (hb : Below w.heap.size w w') : Rd w' w'.heap.size A n c l := (h.below hb).more hb.size

theorem Rd.one (w : World) (k : UInt8) (g : Nat) (hg : g = w.heap.size) : Rd (w.alloc (.cells #[.int .u8 (k.toNat : Int)] 5)) (w.alloc (.cells #[.int .u8 (k.toNat : Int)] 5)).heap.size (some ⟨g, 0, none⟩) 1 1 [k] := by
  subst hg
  have hk := k.toNat_lt
  have := Rd.lit1 w (k.toNat : Int) (by omega) (by omega)
  rw [ofNat_toNat] at this
  simpa using this

set_option maxHeartbeats 400000 in
theorem content_any {A : Option Addr} {n c : Nat} {l : List UInt8} (k : UInt8) (w : World) (hr : Rd w w.heap.size A n c l) (hn : n ≤ 1073741824) :
    Calls Try.prog 23 #[.agg #[.int .u8 (k.toNat : Int), .slice A n c]] w (Gives w (recP k l)) := by
  have hk := k.toNat_lt
  have HR := Lib.hid hr
  clear hr
  have hb1 := Lib.hid (bl_alloc (bl_alloc (bl0 w) (.cells #[.int .u8 (k.toNat : Int), .slice A n c] 31)) (.cells #[.int .u8 (k.toNat : Int)] 5))
  have hr1 := Lib.hid (Rd.one (w.alloc (.cells #[.int .u8 (k.toNat : Int), .slice A n c] 31)) k (w.heap.size + 1) (by simp))
  go_enter Try.func23, Try.ntmps23
  go_wp2_with fail
  refine (Block_any _ hr1.out (by omega) (HR.out.top hb1.out) (by omega)).mono ?_
  rintro e w1 ⟨v1, rfl, ho1, hb2⟩
  go_wp2
  go_ret
  exact Gives.mk (ho1.lower hb1.out.size) (hb1.out.trans (hb2.mono hb1.out.size))
end Go.Proofs.Ytjaoaikcmbfnmaa
