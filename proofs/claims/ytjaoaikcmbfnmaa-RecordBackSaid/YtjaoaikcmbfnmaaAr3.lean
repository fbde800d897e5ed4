/- Cells of a block: read and written one by one. -/
import Derived.Test.YtjaoaikcmbfnmaaAr2
namespace Go.Proofs.Ytjaoaikcmbfnmaa
open Go.RowKit
section
variable {w w' : World} {g top : Nat} {cs : List Value}
theorem Bk.frozen (h : Bk w g cs) (k : Nat) : w.frozen? ⟨g, k, none⟩ = false := by
  obtain ⟨t, h⟩ := h
  exact frozen_of_row w g k _ t h
theorem Bk.setCell (h : Bk w g cs) (k : Nat) (v : Value) : Bk (w.setCell ⟨g, k, none⟩ v) g (cs.set k v) := by
  obtain ⟨t, h⟩ := h
  refine ⟨t, ?_⟩
  rw [heap_setCell_same w g k _ t v h]
  simp
theorem Bk.setCell_ne {g' : Nat} (h : Bk w g cs) (hne : g ≠ g') (k : Nat) (v : Value) : Bk (w.setCell ⟨g', k, none⟩ v) g cs := by
  obtain ⟨t, h⟩ := h
  exact ⟨t, (heap_setCell_other w ⟨g', k, none⟩ g v hne).trans h⟩
theorem bl_setCell {w0 : World} (h : Below w0.heap.size w0 w) (hg : w0.heap.size ≤ g) (k : Nat) (v : Value) : Below w0.heap.size w0 (w.setCell ⟨g, k, none⟩ v) := bl_only h (Only.set w k v) hg

/-- What stays while one cell of block g is written: all but it. -/
structure Kc (g t : Nat) (w w' : World) : Prop where
  os : w'.os = w.os
  tape : w'.tape = w.tape
  output : w'.output = w.output
  size : w.heap.size ≤ w'.heap.size
  block : ∀ k, k < w.heap.size → k ≠ g → w'.heap[k]? = w.heap[k]?
  cell : g < w.heap.size → ∀ j, j ≠ t → w'.cell? ⟨g, j, none⟩ = w.cell? ⟨g, j, none⟩
theorem Kc.stays (g t : Nat) : Stays (Kc g t) :=
  ⟨fun _ => ⟨rfl, rfl, rfl, Nat.le_refl _, fun _ _ _ => rfl, fun _ _ _ => rfl⟩,
   fun h k => ⟨k.os.trans h.os, k.tape.trans h.tape, k.output.trans h.output, Nat.le_trans h.size k.size, fun i hi hm => (k.block i (Nat.lt_of_lt_of_le hi h.size) hm).trans (h.block i hi hm), fun hg j hj => (k.cell (Nat.lt_of_lt_of_le hg h.size) j hj).trans (h.cell hg j hj)⟩⟩
theorem Kc.of_old {t : Nat} (h : Below w.heap.size w w') : Kc g t w w' := ⟨h.os, h.tape, h.output, h.size, fun k hk _ => h.block k hk, fun hg _ _ => h.cell hg⟩
theorem cell_setCell_ne (w : World) (g k j : Nat) (v : Value) (hj : j ≠ k) : (w.setCell ⟨g, k, none⟩ v).cell? ⟨g, j, none⟩ = w.cell? ⟨g, j, none⟩ :=
  World.cell?_setCell_other w _ _ v (by simp; try omega)
theorem Kc.of_set {t : Nat} (w : World) (v : Value) : Kc g t w (w.setCell ⟨g, t, none⟩ v) :=
  ⟨rfl, rfl, rfl, by simp [World.setCell], fun k _ hne => heap_setCell_other w ⟨g, t, none⟩ k v hne, fun _ j hj => cell_setCell_ne w g t j v hj⟩
/-- A cell that is not the one written reads as it did. -/
theorem Kc.read {t k : Nat} {v : Value} (h : Kc g t w w') (hB : Bk w g cs) (hk : k ≠ t) (hv : cs[k]? = some v) : w'.cell? ⟨g, k, none⟩ = some v := (h.cell hB.lt k hk).trans (hB.cell hv)
end

theorem exec_load_cell {o : Oper} {a : Act} {w : World} (ty : TypeId) (x : Operand) (ho : o.op = .load ty x) (hag : ∀ w, (isAgg ty).run Try.prog w = .ok false w)
    {ad : Addr} (hx : a.eval x = .pointer (some ad)) {v : Value} (hc : w.cell? ad = some v) : (execOp a.eval o).run Try.prog w = .ok (.value v) w := by
  have hl : (loadVar ty ad).run Try.prog w = .ok v w := by simp [loadVar, Sem.run_bind, hag, hc, go_sem]
  unfold execOp
  simp only [ho, hx, Instr.loadAt, Instr.sureAddr, Sem.run_bind, Sem.run_pure, Result.andThen_ok, hl]

/-- A slice turned into a pointer to an array. -/
theorem wpList_arrayAt {ops : Array Oper} {rest : List Oper} {o : Oper} {a : Act} {w : World} {Q : Exit → Act → World → Prop} (hgd : o.guard = none) (T : TypeId) (x : Operand) (ho : o.op = .sliceToArrayPointer T x)
    {A : Option Addr} {n c m : Nat} {e : TypeId} (hx : a.eval x = .slice A n c) (hu : Try.prog.underlying T = some (.array m e)) (hm : m ≤ n)
    (h : wpList Try.prog ops Q rest (a.put o.dst (.pointer A)) w) : wpList Try.prog ops Q (o :: rest) a w := by
  refine wpList_plain hgd fun K hK => ?_
  unfold Oper.wp execOp
  simp only [ho, hx, run_arrayAt hu hm, Sem.run_bind, Result.andThen_ok, Sem.run_pure]
  exact hK _ _ h
theorem exec_arrayAt {o : Oper} {a : Act} {w : World} (T : TypeId) (x : Operand) (ho : o.op = .sliceToArrayPointer T x)
    {A : Option Addr} {n c m : Nat} {e : TypeId} (hx : a.eval x = .slice A n c) (hu : Try.prog.underlying T = some (.array m e)) (hm : m ≤ n) : (execOp a.eval o).run Try.prog w = .ok (.value (.pointer A)) w := by
  unfold execOp
  simp only [ho, hx, run_arrayAt hu hm, Sem.run_bind, Result.andThen_ok, Sem.run_pure]
theorem add_zero_mid (g k : Nat) : (⟨g, 0, none⟩ : Addr).add k = ⟨g, k, none⟩ := by unfold Addr.add; split <;> simp_all
/-- The part of an array of bytes from place k on, and the part up to place h. -/
theorem run_slice_lo {T : TypeId} {n : Nat} (hu : Try.prog.underlying T = some (.array n 5)) {g k : Nat} (hk : k < n) (i : Int) (hi : i = k) (w : World) :
    (Instr.sliceAt T (.pointer (some ⟨g, 0, none⟩)) (some (.int .i64 i)) none none).run Try.prog w = .ok (.slice (some ⟨g, k, none⟩) (n - k) (n - k)) w := by
  subst hi
  have h1 : ¬ n = k := by omega
  have h2 : (k : Int) ≤ (n : Int) := by omega
  simp [Instr.sliceAt, Instr.sureAddr, run_underlying hu, Instr.sliceBounds, run_sliceBound, h1, h2, Try.sizeOf5, add_zero_mid, go_sem]
theorem run_slice_hi {T : TypeId} {n : Nat} (hu : Try.prog.underlying T = some (.array n 5)) {g h : Nat} (hh : h ≤ n) (hn : 0 < n) (w : World) :
    (Instr.sliceAt T (.pointer (some ⟨g, 0, none⟩)) none (some (.int .i64 (h : Int))) none).run Try.prog w = .ok (.slice (some ⟨g, 0, none⟩) h n) w := by
  have h1 : ¬ n = 0 := by omega
  have h2 : (h : Int) ≤ (n : Int) := by omega
  simp [Instr.sliceAt, Instr.sureAddr, run_underlying hu, Instr.sliceBounds, run_sliceBound, h1, h2, Try.sizeOf5, add_zero_mid, go_sem]
theorem exec_addI {o : Oper} {a : Act} {w : World} (x y : Operand) (ho : o.op = .binOp .add 25 x y 25) {m n : Int} (hx : a.eval x = .int .u64 m) (hy : a.eval y = .int .u64 n) :
    (execOp a.eval o).run Try.prog w = .ok (.value (.int .u64 (IntKind.u64.wrap (m + n)))) w := by
  unfold execOp
  simp only [ho, hx, hy]
  simp [go_sem, Try.underlying25]
/-- A sum of words. -/
theorem exec_add64 {o : Oper} {a : Act} {w : World} (x y : Operand) (ho : o.op = .binOp .add 25 x y 25) {m n s : UInt64} (h : m + n = s) (hx : a.eval x = .int .u64 (m.toNat : Int)) (hy : a.eval y = .int .u64 (n.toNat : Int)) :
    (execOp a.eval o).run Try.prog w = .ok (.value (.int .u64 (s.toNat : Int))) w := by
  rw [exec_addI x y ho hx hy, addU, h]
/-- A word put into its cell. -/
theorem wp_store_cell {o : Oper} {a : Act} {w : World} {K : Act → World → Prop} {Q : Exit → Act → World → Prop} (x y : Operand) (ho : o.op = .store 25 x y) {g k : Nat} {v : Int} {cs : List Value}
    (hx : a.eval x = .pointer (some ⟨g, k, none⟩)) (hy : a.eval y = .int .u64 v) (hB : Bk w g cs) (hk : k < cs.length) (h : K (a.put o.dst undef) (w.setCell ⟨g, k, none⟩ (.int .u64 v))) : o.wp Try.prog a w K Q := by
  have hc := hB.cell (List.getElem?_eq_getElem hk)
  have hf := hB.frozen k
  unfold Oper.wp execOp
  simp only [ho, hx, hy]
  simp [Instr.storeAt, Instr.sureAddr, storeVar, storeCells, Try.sizeOf25, hc, hf, go_sem]
  exact h
theorem run_at64 {T : TypeId} {n : Nat} (hu : Try.prog.underlying T = some (.array n 25)) {g k : Nat} (hk : k < n) (w : World) :
    (Instr.indexAt T (.pointer (some ⟨g, 0, none⟩)) (.int .i64 (k : Int))).run Try.prog w = .ok (.pointer (some ⟨g, k, none⟩)) w := by
  simp [Instr.indexAt, Instr.sureAddr, run_underlying hu, asIntOf, hk, Try.sizeOf25, add_zero_mid, go_sem]
/-- The place of a word in an array of words. -/
theorem exec_at64 {o : Oper} {a : Act} {w : World} (T : TypeId) (x y : Operand) (ho : o.op = .indexAddr T x y) {n : Nat} (hu : Try.prog.underlying T = some (.array n 25)) {g k : Nat}
    (hx : a.eval x = .pointer (some ⟨g, 0, none⟩)) (hy : a.eval y = .int .i64 (k : Int)) (hk : k < n) : (execOp a.eval o).run Try.prog w = .ok (.value (.pointer (some ⟨g, k, none⟩))) w := by
  unfold execOp
  simp only [ho, hx, hy, run_at64 hu hk, Sem.run_bind, Result.andThen_ok, Sem.run_pure]
end Go.Proofs.Ytjaoaikcmbfnmaa
