/- What ScalarRests' walk asks. -/
import Derived.Test.YtdfaliadkpdfpaaAz
import Derived.Test.YtdfaliadkpdfpaaSb
namespace Go.Proofs.Ytdfaliadkpdfpaa
set_option linter.unusedSimpArgs false
set_option linter.unusedVariables false
open Go.RowKit

/-- How many bits of a number are set, of the lowest i. -/
def bitN (X : Nat) : Nat → Nat
  | 0 => 0
  | i + 1 => bitN X i + X / 2 ^ i % 2
theorem bitN_le (X : Nat) : ∀ i, bitN X i ≤ i
  | 0 => Nat.le_refl _
  | i + 1 => by
    have := bitN_le X i
    have h2 := Nat.mod_lt (X / 2 ^ i) (show 2 > 0 by omega)
    rw [bitN]
    omega
theorem bitN_zero (X : Nat) : ∀ i, bitN X i = 0 → X % 2 ^ i = 0
  | 0, _ => by rw [Nat.pow_zero, Nat.mod_one]
  | i + 1, h => by
    rw [bitN] at h
    have h1 := bitN_zero X i (by omega)
    have h2 : X / 2 ^ i % 2 = 0 := by omega
    rw [Nat.mod_pow_succ, h1, h2, Nat.mul_zero]
theorem bitN_of_zero : ∀ i, bitN 0 i = 0
  | 0 => rfl
  | i + 1 => by rw [bitN, bitN_of_zero i, Nat.zero_div]
theorem bitN_iff (X : Nat) (h : X < 2 ^ 256) : decide (bitN X 256 = 0) = decide (X = 0) := by
  rw [Bool.eq_iff_iff, decide_eq_true_iff, decide_eq_true_iff]
  constructor
  · intro h2
    have := bitN_zero X 256 h2
    rwa [Nat.mod_eq_of_lt h] at this
  · intro h2
    rw [h2, bitN_of_zero]
theorem val_cut (l : List UInt8) (k : Nat) (hk : k ≤ l.length) : (val (l.take k) % LL + val (l.drop k) * 256 ^ k % LL) % LL = val l % LL := by
  have h := val_append (l.take k) (l.drop k)
  rw [List.take_append_drop, List.length_take, Nat.min_eq_left hk] at h
  rw [h, ← Nat.add_mod, Nat.mul_comm (256 ^ k)]
theorem val_more (l : List UInt8) (m : Nat) : val (l ++ List.replicate m 0) = val l := by
  rw [val_append, val_zeros, Nat.mul_zero, Nat.add_zero]
theorem mul_more (D i : Nat) : D * 256 ^ i % LL * 256 % LL = D * 256 ^ (i + 1) % LL := by
  rw [Nat.mod_mul_mod, Nat.pow_succ, Nat.mul_assoc]
section
variable {o : Oper} {a : Act} {w : World}
theorem exec_eq0 (x : Operand) (ho : o.op = .binOp .eql 3 x (.const (.int .i64 0)) 3) {m : Nat} {b : Bool} (hx : a.eval x = .int .i64 (m : Int)) (hb : decide (m = 0) = b) : (execOp a.eval o).run Try.prog w = .ok (.value (.bool b)) w := by
  have e : ((m : Int) == 0) = b := by
    rw [← hb, Bool.eq_iff_iff, beq_iff_eq, decide_eq_true_iff]
    omega
  unfold execOp
  simp only [ho, hx]
  simp [go_sem, e]
theorem exec_eqbb (x y : Operand) (ho : o.op = .binOp .eql 4 x y 4) {b : Bool} (hx : a.eval x = .bool b) (hy : a.eval y = .bool b) : (execOp a.eval o).run Try.prog w = .ok (.value (.bool true)) w := by
  unfold execOp
  simp only [ho, hx, hy]
  simp [go_sem]
end
section
variable {w0 w w' : World} {g base : Nat} {cs : List Value} {v : Value} {xs : List UInt8}
theorem Bk.own (h : Bk w g cs) (ho : Ow w base v xs) (hb : g < base) (hg : w.grownBy w' v.ownBlock) : Bk w' g cs := by
  have hl := h.lt
  obtain ⟨t, h⟩ := h
  exact ⟨t, (hg.block g hl (fun e => by have := (World.ownsRow.lt ho g e.symm).1; omega)).trans h⟩
theorem bl_own (hB : Below w0.heap.size w0 w) (ho : Ow w base v xs) (hb : w0.heap.size ≤ base) (hg : w.grownBy w' v.ownBlock) : Below w0.heap.size w0 w' :=
  hB.grown hg hB.size (fun k hk => Nat.le_trans hb (World.ownsRow.lt ho k hk).1)
end
/-- Where a slice's rest begins. -/
def restAt (A : Option Addr) (c k : Nat) : Option Addr := if c = k then A else A.map (·.add k)
theorem Rd.rest {w : World} {top n c k : Nat} {A : Option Addr} {l : List UInt8} (h : Rd w top A n c l) (hk : k ≤ n) : Rd w top (restAt A c k) (n - k) (c - k) (l.drop k) := h.drop_ hk
theorem exec_slice22_lo {o : Oper} {a : Act} {w : World} (x y : Operand) (ho : o.op = .slice 22 x (some y) none none) {A : Option Addr} {n c k : Nat} {i : Int} (hx : a.eval x = .slice A n c) (hy : a.eval y = .int .i64 i) (hk : k ≤ n) (hi : i = k) :
    (execOp a.eval o).run Try.prog w = .ok (.value (.slice (restAt A c k) (n - k) (c - k))) w := by
  subst hi
  have h1 : (k : Int) ≤ (n : Int) := by omega
  unfold execOp
  simp only [ho, hx, hy, Option.map_some, Option.map_none]
  simp [Instr.sliceAt, Instr.slice, run_underlying Try.underlying22, Instr.sliceBounds, run_sliceBound, h1, Try.sizeOf5, restAt, go_sem]
theorem wpList_appz {w : World} {ops : Array Oper} {rest : List Oper} {o : Oper} {a : Act} {Q : Exit → Act → World → Prop} (hgd : o.guard = none) (s x : Operand)
    (ho : o.op = .call { callee := .builtin .append, args := #[s, x], argTypes := #[22, 3] })
    {base : Nat} {v : Value} {xs : List UInt8} (hs : a.eval s = v) (hown : Ow w base v xs) (n : Nat) {z : Int} (hx : a.eval x = .int .i64 z) (hz : z = (n : Int)) (hl : xs.length ≤ 64) (hn : n ≤ 64) (hbase : base ≤ w.heap.size)
    (h : ∀ v' w', Ow w' base v' (xs ++ List.replicate n 0) → w.grownBy w' v.ownBlock → wpList Try.prog ops Q rest (a.put o.dst v') w') : wpList Try.prog ops Q (o :: rest) a w := by
  subst hz
  refine wpList_plain hgd fun K hK => ?_
  obtain ⟨v', w', hrun, h2, h3⟩ := run_appz hown n hl hn hbase o.type
  unfold Oper.wp execOp
  simp only [ho, resolve, invoke, builtin, Sem.run_bind, Sem.run_pure, Result.andThen_ok, List.map_toArray, List.map_cons, List.map_nil, hs, hx, hrun]
  exact hK _ _ (h v' w' h2 h3)
end Go.Proofs.Ytdfaliadkpdfpaa
