/- A byte of a sum out of its word: the operations, one by one. -/
import Derived.Test.YtgpgolegedfjfaaPq
namespace Go.Proofs.Ytgpgolegedfjfaa
open Go.RowKit
section
variable {o : Oper} {a : Act} {w : World}
theorem exec_quo8 (x : Operand) (ho : o.op = .binOp .quo 3 x (.const (.int .i64 8)) 3) {j : Nat} (hx : a.eval x = .int .i64 (j : Int)) (hj : j < 64) : (execOp a.eval o).run Try.prog w = .ok (.value (.int .i64 ((j / 8 : Nat) : Int))) w := by
  have hw : IntKind.i64.wrap ((j : Int).tdiv 8) = ((j / 8 : Nat) : Int) := by
    rw [IntKind.wrap_i64, Int.tdiv_eq_ediv_of_nonneg (by omega)]; omega
  unfold execOp
  simp only [ho, hx]
  simp [go_sem, Try.underlying3, hw]
  try (rw [Int.tdiv_eq_ediv_of_nonneg (by omega)])
  try (rw [IntKind.wrap_i64]; omega)
theorem exec_rem8 (x : Operand) (ho : o.op = .binOp .rem 3 x (.const (.int .i64 8)) 3) {j : Nat} (hx : a.eval x = .int .i64 (j : Int)) (hj : j < 64) : (execOp a.eval o).run Try.prog w = .ok (.value (.int .i64 ((j % 8 : Nat) : Int))) w := by
  unfold execOp
  simp only [ho, hx]
  simp [go_sem, Try.underlying3]
  try (rw [Int.tmod_eq_emod_of_nonneg (by omega)])
  try (rw [IntKind.wrap_i64]; omega)
theorem exec_mul8 (x : Operand) (ho : o.op = .binOp .mul 3 (.const (.int .i64 8)) x 3) {j : Nat} (hx : a.eval x = .int .i64 (j : Int)) (hj : j < 64) : (execOp a.eval o).run Try.prog w = .ok (.value (.int .i64 ((8 * j : Nat) : Int))) w := by
  unfold execOp
  simp only [ho, hx]
  simp [go_sem, Try.underlying3]
  try (rw [IntKind.wrap_i64]; omega)
theorem exec_sub56 (x : Operand) (ho : o.op = .binOp .sub 3 (.const (.int .i64 56)) x 3) {j : Nat} (hx : a.eval x = .int .i64 (j : Int)) (hj : j ≤ 56) : (execOp a.eval o).run Try.prog w = .ok (.value (.int .i64 ((56 - j : Nat) : Int))) w := by
  unfold execOp
  simp only [ho, hx]
  simp [go_sem, Try.underlying3]
  try (rw [IntKind.wrap_i64]; omega)
theorem exec_cvtu (x : Operand) (ho : o.op = .convert 3 29 x) {j : Nat} (hx : a.eval x = .int .i64 (j : Int)) (hj : j ≤ 56) : (execOp a.eval o).run Try.prog w = .ok (.value (.int .u64 (j : Int))) w := by
  have e : IntKind.u64.wrap (j : Int) = (j : Int) := by rw [wrapU]; omega
  unfold execOp
  simp only [ho, hx]
  simp [go_sem, Try.underlying3, Try.underlying29, e]
theorem exec_shr (x y : Operand) (ho : o.op = .binOp .shr 24 x y 29) {m s : Nat} (hx : a.eval x = .int .u64 (m : Int)) (hy : a.eval y = .int .u64 (s : Int)) (hs : s ≤ 56) : (execOp a.eval o).run Try.prog w = .ok (.value (.int .u64 ((m / 2 ^ s : Nat) : Int))) w := by
  unfold execOp
  simp only [ho, hx, hy]
  simp [go_sem, Try.underlying24, Try.underlying29]
  try omega
theorem exec_cvtb (x : Operand) (ho : o.op = .convert 24 5 x) {m b : Nat} (hx : a.eval x = .int .u64 (m : Int)) (hb : m % 256 = b) : (execOp a.eval o).run Try.prog w = .ok (.value (.int .u8 (b : Int))) w := by
  have e : IntKind.u8.wrap (m : Int) = (b : Int) := by
    rw [← hb]
    simp [IntKind.wrap, IntKind.signed, IntKind.bits]
  unfold execOp
  simp only [ho, hx]
  simp [go_sem, Try.underlying24, Try.underlying5, e]
theorem exec_neb (x y : Operand) (ho : o.op = .binOp .neq 5 x y 5) {b : Int} (hx : a.eval x = .int .u8 b) (hy : a.eval y = .int .u8 b) : (execOp a.eval o).run Try.prog w = .ok (.value (.bool false)) w := by
  unfold execOp
  simp only [ho, hx, hy]
  simp [go_sem, bne]
theorem exec_lt32 (x : Operand) (ho : o.op = .binOp .lss 3 x (.const (.int .i64 32)) 3) {j : Nat} (hx : a.eval x = .int .i64 (j : Int)) : (execOp a.eval o).run Try.prog w = .ok (.value (.bool (decide (j < 32)))) w := by
  have e : decide ((j : Int) < 32) = decide (j < 32) := by rw [Bool.eq_iff_iff, decide_eq_true_iff, decide_eq_true_iff]; omega
  unfold execOp
  simp only [ho, hx]
  simp [go_sem, e]
  try omega
end
end Go.Proofs.Ytgpgolegedfjfaa
