/- Steps of the fenced walk on rows in memory. -/
import Derived.Test.YtjaoaikcmbfnmaaRr
import Derived.Test.YtjaoaikcmbfnmaaBq
import Derived.RangeFuncNested
import Derived.RangeFuncBound
import Derived.RangeFuncCalls
import Derived.RangeFuncLeaves
import Derived.Shelf.Abstract
import Derived.Shelf.RegionOpen
import Derived.WalkKit
import Derived.OwnWalkIn
import Derived.TacticsInMore
import Derived.LoopNIn
import Derived.LoopIn
namespace Go.Proofs.Ytjaoaikcmbfnmaa
set_option maxRecDepth 8192
set_option linter.unusedSimpArgs false
set_option linter.unusedVariables false
open Go.RowKit Go.Shelf

section
variable {F : Fence} {n : Nat} {ops : Array Oper} {rest : List Oper} {o : Oper} {a : Act} {w w' : World} {Q : Exit → Act → World → Prop}
theorem inl_val (hg : Region.wanted o (yielded ops a.tmps) = true) (ha : o.about Try.prog w a.eval = none) (hd : ∀ c, o.op ≠ .defer c) {v : Value} (he : (execOp a.eval o).run Try.prog w = .ok (.value v) w')
    (h : wpListIn F n Try.prog ops Q rest (a.put o.dst v) w') : wpListIn F n Try.prog ops Q (o :: rest) a w :=
  wpListIn_step fun K hK => by
    rw [if_pos hg]
    unfold Oper.wpIn
    refine ⟨(by rw [ha]; intro f hf; cases hf), ?_⟩
    rw [Oper.semAt_plain F _ _ hd, he]
    exact hK _ _ h
theorem inl_skip (hg : Region.wanted o (yielded ops a.tmps) = true) (ha : o.about Try.prog w a.eval = none) (hd : ∀ c, o.op ≠ .defer c) (he : (execOp a.eval o).run Try.prog w = .ok .skip w')
    (h : wpListIn F n Try.prog ops Q rest (a.put o.dst undef) w') : wpListIn F n Try.prog ops Q (o :: rest) a w :=
  wpListIn_step fun K hK => by
    rw [if_pos hg]
    unfold Oper.wpIn
    refine ⟨(by rw [ha]; intro f hf; cases hf), ?_⟩
    rw [Oper.semAt_plain F _ _ hd, he]
    exact hK _ _ h
theorem inl_alloc_z (hg : Region.wanted o (yielded ops a.tmps) = true) (T : TypeId) (ho : o.op = .alloc T) (z : List Value) (hz : ∀ w, (zeroValue T).run Try.prog w = .ok (.agg z.toArray) w)
    (h : wpListIn F n Try.prog ops Q rest (a.put o.dst (.pointer (some ⟨w.heap.size, 0, none⟩))) (w.alloc (.cells z.toArray T))) : wpListIn F n Try.prog ops Q (o :: rest) a w :=
  inl_val hg (by simp [Oper.about, ho]) (by rw [ho]; intro c hc; cases hc) (by
    unfold execOp
    simp only [ho, Sem.run_bind, hz, Result.andThen_ok, Sem.run_pure, go_sem]) h
theorem inl_load_at (hg : Region.wanted o (yielded ops a.tmps) = true) (ty : TypeId) (x : Operand) (ho : o.op = .load ty x)
    (ad : Addr) (hx : a.eval x = .pointer (some ad)) (cs : List Value) (d : TypeDesc) (hc : ∀ j v, cs[j]? = some v → w.cell? (ad.add j) = some v)
    (hu : Try.prog.underlying ty = some d) (hd : d.isRow = true) (hi : (Try.prog.info? ty).map (·.size) = some cs.length)
    (h : wpListIn F n Try.prog ops Q rest (a.put o.dst (.agg cs.toArray)) w) : wpListIn F n Try.prog ops Q (o :: rest) a w :=
  inl_val hg (by simp [Oper.about, ho]) (by rw [ho]; intro c hc; cases hc) (exec_load_at ty x ho ad hx cs d hc hu hd hi) h
theorem exec_store_bk (ty : TypeId) (x y : Operand) (ho : o.op = .store ty x y)
    (g : Nat) (hx : a.eval x = .pointer (some ⟨g, 0, none⟩)) (cs old : List Value) (hy : a.eval y = .agg cs.toArray) (hg : Bk w g old) (hi : (Try.prog.info? ty).map (·.size) = some cs.length)
    (hold : old.length = cs.length) (h1 : cs.toArray.all (·.oneCell') = true) : (execOp a.eval o).run Try.prog w = .ok .skip (w.setRow g cs.toArray) := by
  obtain ⟨t, hg⟩ := hg
  unfold execOp
  simp only [ho, hx, hy, Instr.storeAt, Instr.sureAddr, Sem.run_bind, Sem.run_pure, Result.andThen_ok, run_storeVar_row w g t ty old.toArray cs.toArray hg (by simpa using hi) (by simpa using hold) h1]
theorem inl_store_bk (hg0 : Region.wanted o (yielded ops a.tmps) = true) (ty : TypeId) (x y : Operand) (ho : o.op = .store ty x y)
    (g : Nat) (hx : a.eval x = .pointer (some ⟨g, 0, none⟩)) (cs old : List Value) (hy : a.eval y = .agg cs.toArray) (hg : Bk w g old) (hi : (Try.prog.info? ty).map (·.size) = some cs.length)
    (hold : old.length = cs.length) (h1 : cs.toArray.all (·.oneCell') = true) (h : wpListIn F n Try.prog ops Q rest (a.put o.dst undef) (w.setRow g cs.toArray)) : wpListIn F n Try.prog ops Q (o :: rest) a w :=
  inl_skip hg0 (by simp [Oper.about, ho]) (by rw [ho]; intro c hc; cases hc) (exec_store_bk ty x y ho g hx cs old hy hg hi hold h1) h
end
end Go.Proofs.Ytjaoaikcmbfnmaa
