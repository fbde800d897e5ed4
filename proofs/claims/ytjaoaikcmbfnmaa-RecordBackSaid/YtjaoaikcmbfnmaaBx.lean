/- Operations on words, one by one. -/
import Derived.Test.YtjaoaikcmbfnmaaAr3
namespace Go.Proofs.Ytjaoaikcmbfnmaa
set_option maxRecDepth 8192
open Go.RowKit
theorem exec_and64 {o : Oper} {a : Act} {w : World} (x y : Operand) (ho : o.op = .binOp .and 25 x y 25) {m n s : UInt64} (h : m &&& n = s) (hx : a.eval x = .int .u64 (m.toNat : Int)) (hy : a.eval y = .int .u64 (n.toNat : Int)) :
    (execOp a.eval o).run Try.prog w = .ok (.value (.int .u64 (s.toNat : Int))) w := by
  have e := andU m n
  rw [h] at e
  unfold execOp
  simp only [ho, hx, hy]
  simp [go_sem, e]
theorem exec_xor64 {o : Oper} {a : Act} {w : World} (x y : Operand) (ho : o.op = .binOp .xor 25 x y 25) {m n s : UInt64} (h : m ^^^ n = s) (hx : a.eval x = .int .u64 (m.toNat : Int)) (hy : a.eval y = .int .u64 (n.toNat : Int)) :
    (execOp a.eval o).run Try.prog w = .ok (.value (.int .u64 (s.toNat : Int))) w := by
  have e := xorU m n
  rw [h] at e
  unfold execOp
  simp only [ho, hx, hy]
  simp [go_sem, e]
theorem notX (m : UInt64) : 18446744073709551615 ^^^ m = ~~~m := by
  apply UInt64.eq_of_toBitVec_eq
  rw [UInt64.toBitVec_xor, UInt64.toBitVec_not]
  exact BitVec.allOnes_xor
theorem exec_not64 {o : Oper} {a : Act} {w : World} (x : Operand) (ho : o.op = .unOp .xor 25 x) {m s : UInt64} (h : ~~~m = s) (hx : a.eval x = .int .u64 (m.toNat : Int)) :
    (execOp a.eval o).run Try.prog w = .ok (.value (.int .u64 (s.toNat : Int))) w := by
  unfold execOp
  simp only [ho, hx]
  simp [go_sem]
  have e := xorU 18446744073709551615 m
  rw [notX, h] at e
  rw [← e]
  rfl
end Go.Proofs.Ytjaoaikcmbfnmaa
