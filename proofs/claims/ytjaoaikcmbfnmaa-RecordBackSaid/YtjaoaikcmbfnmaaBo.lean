/- RecordBound. -/
import Derived.Test.YtjaoaikcmbfnmaaEa
namespace Go.Proofs.Ytjaoaikcmbfnmaa
set_option maxRecDepth 100000
set_option linter.unusedSimpArgs false
set_option linter.unusedVariables false
open Go.RowKit

/-- What lies all the while: the record, both chains. -/
structure Bx (w w1 : World) (C D : List UInt8) (k : UInt8) (A : Option Addr) (n c : Nat) (l : List UInt8) : Prop where
  bel : Below w.heap.size w w1
  hr : Bk w1 w.heap.size [.int .u8 (k.toNat : Int), .slice A n c]
  hc : Bk w1 (w.heap.size + 1) (cs8 C)
  hd : Bk w1 (w.heap.size + 1 + 1) (cs8 D)
  rd : Rd w1 w1.heap.size A n c l
section
variable {w w1 w2 : World} {C D : List UInt8} {k : UInt8} {A : Option Addr} {n c : Nat} {l : List UInt8}
theorem Bx.mk0 (w : World) (C D : List UInt8) (k : UInt8) (hr : Rd w w.heap.size A n c l) : Bx w (((w.alloc (.cells #[.int .u8 (k.toNat : Int), .slice A n c] 31)).alloc (.cells (cs8 C).toArray 23)).alloc (.cells (cs8 D).toArray 23)) C D k A n c l := by
  have hb := bl_alloc (bl_alloc (bl_alloc (bl0 w) (.cells #[.int .u8 (k.toNat : Int), .slice A n c] 31)) (.cells (cs8 C).toArray 23)) (.cells (cs8 D).toArray 23)
  refine ⟨hb, ((Bk.new w [.int .u8 (k.toNat : Int), .slice A n c] 31).old _).old _, ?_, ?_, hr.top hb⟩
  · have := (Bk.new (w.alloc (.cells #[.int .u8 (k.toNat : Int), .slice A n c] 31)) (cs8 C) 23).old (.cells (cs8 D).toArray 23)
    rwa [show (w.alloc (.cells #[.int .u8 (k.toNat : Int), .slice A n c] 31)).heap.size = w.heap.size + 1 from by simp] at this
  · have := Bk.new ((w.alloc (.cells #[.int .u8 (k.toNat : Int), .slice A n c] 31)).alloc (.cells (cs8 C).toArray 23)) (cs8 D) 23
    rwa [show ((w.alloc (.cells #[.int .u8 (k.toNat : Int), .slice A n c] 31)).alloc (.cells (cs8 C).toArray 23)).heap.size = w.heap.size + 1 + 1 from by simp] at this
theorem Bx.keep (h : Bx w w1 C D k A n c l) (hb : Below w1.heap.size w1 w2) : Bx w w2 C D k A n c l := ⟨bl_call h.bel hb, h.hr.keep hb, h.hc.keep hb, h.hd.keep hb, h.rd.top hb⟩
theorem Bx.lt (h : Bx w w1 C D k A n c l) : w.heap.size + 1 + 1 < w1.heap.size := h.hd.lt
end

set_option maxHeartbeats 1600000 in
theorem Bound_off (A : Option Addr) (n c : Nat) (l C D : List UInt8) (k by_ : UInt8) (at_ : Int) (w : World) (hr : Rd w w.heap.size A n c l) (hv : ¬ Vr k l) :
    Calls Try.prog 5 #[.agg #[.int .u8 (k.toNat : Int), .slice A n c], .agg (cs8 C).toArray, .agg (cs8 D).toArray, .int .i64 at_, .int .u8 (by_.toNat : Int)] w fun e w' => e = .returned (.bool true) ∧ Below w.heap.size w w' := by
  have hl := hr.len
  have HB := Lib.hid (Bx.mk0 w C D k hr)
  have hv' : ¬ (k ≠ 0 ∧ n ≤ 8192) := fun e => hv ⟨e.1, by omega⟩
  have HV := Lib.hid hv'
  clear hr hv hl hv'
  go_enter Try.func5, Try.ntmps5
  go_wp2_with fail
  generalize (((w.alloc (.cells #[.int .u8 (k.toNat : Int), .slice A n c] 31)).alloc (.cells (cs8 C).toArray 23)).alloc (.cells (cs8 D).toArray 23)) = w1 at HB ⊢
  refine (lives_any w1).mono ?_; rintro e w2 ⟨rfl, hb⟩
  have HB2 := Lib.hid (HB.out.keep hb)
  clear HB hb
  have hc0 := HB2.out.hr.cell (k := 0) rfl
  have hc1 := HB2.out.hr.cell (k := 1) rfl
  by_cases h9 : 9000 < n
  · go_wp2
    go_ret
    exact ⟨rfl, HB2.out.bel⟩
  · go_wp2_with fail
    refine (Check_bad _ HV.out).mono ?_; rintro e w3 ⟨rfl, hb⟩
    have HB3 := Lib.hid (HB2.out.keep hb)
    clear HB2 hb hc0 hc1
    go_wp2
    go_ret
    exact ⟨rfl, HB3.out.bel⟩
end Go.Proofs.Ytjaoaikcmbfnmaa
