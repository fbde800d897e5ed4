/- Rows of words and bytes, blocks of cells: read and written. -/
import Derived.Test.YtdfaliadkpdfpaaMem
import Derived.Test.YtdfaliadkpdfpaaReg
import Derived.Laws.BitsAllLaws
import Derived.Deep.MidRow
import Derived.Laws.CopyOwn
namespace Go.Proofs.Ytdfaliadkpdfpaa
set_option linter.unusedSimpArgs false
set_option linter.unusedVariables false
open Go.RowKit

theorem ret_int {k : IntKind} {a b : Int} (h : a = b) : Ending.returned (.int k a) = .returned (.int k b) := by rw [h]
theorem val_int {k : IntKind} {a b : Int} (h : a = b) : Value.int k a = .int k b := by rw [h]
theorem wrapU (z : Int) : IntKind.u64.wrap z = z % 18446744073709551616 := by simp [IntKind.wrap, IntKind.signed, IntKind.bits]
theorem wrapN (n : Nat) : IntKind.u64.wrap (n : Int) = ((n % 18446744073709551616 : Nat) : Int) := by rw [wrapU]; simp
/-- Nothing changes. -/
def Sm (w w' : World) : Prop := w' = w
theorem Sm.stays : Stays Sm := ⟨fun _ => rfl, fun h k => k.trans h⟩
theorem toNat_of {n : Nat} (h : n < 18446744073709551616) : (UInt64.ofNat n).toNat = n := UInt64.toNat_ofNat_of_lt' h



theorem xorU (x y : UInt64) : bits .xor .u64 (x.toNat : Int) (y.toNat : Int) = ((x ^^^ y).toNat : Int) := by rw [u64_xor_nat _ _ x.toNat_lt y.toNat_lt, UInt64.toNat_xor]
theorem andU (x y : UInt64) : bits .and .u64 (x.toNat : Int) (y.toNat : Int) = ((x &&& y).toNat : Int) := by rw [u64_and_nat _ _ x.toNat_lt y.toNat_lt, UInt64.toNat_and]
theorem orU (x y : UInt64) : bits .or .u64 (x.toNat : Int) (y.toNat : Int) = ((x ||| y).toNat : Int) := by rw [u64_or_nat _ _ x.toNat_lt y.toNat_lt, UInt64.toNat_or]
theorem addU (x y : UInt64) : IntKind.u64.wrap ((x.toNat : Int) + (y.toNat : Int)) = ((x + y).toNat : Int) := by
  rw [UInt64.toNat_add, ← wrapN]; simp
theorem divU (x : UInt64) (c : Nat) : ((x.toNat : Int) / 2 ^ c) = ((UInt64.ofNat (x.toNat / 2 ^ c)).toNat : Int) := by
  rw [toNat_of (Nat.lt_of_le_of_lt (Nat.div_le_self _ _) x.toNat_lt)]; simp


/-- The cell of a word. -/
def B64 (u : UInt64) : Value := .int .u64 (u.toNat : Int)
def cs64 (l : List UInt64) : List Value := l.map B64
theorem cs64_length (l : List UInt64) : (cs64 l).length = l.length := by simp [cs64]
theorem cs64_one (l : List UInt64) : (cs64 l).toArray.all (·.oneCell') = true := by
  simp [cs64, B64]
  intro u _
  rfl
theorem cs8_all (l : List UInt8) : (cs8 l).toArray.all (·.oneCell') = true := by
  simp [cs8, B8]
  intro u _
  rfl

theorem run_index8 {T : TypeId} {n : Nat} (hu : Try.prog.underlying T = some (.array n 5)) {cs : Array Value} {t : Nat} {v : Value} (ht : t < n) (hc : cs[t]? = some v) (w : World) :
    (Instr.index T (.agg cs) (.int .i64 (t : Int))).run Try.prog w = .ok v w := by
  simp [Instr.index, run_underlying hu, asIntOf, ht, Try.sizeOf5, part, Try.isAgg5, hc, go_sem]
theorem run_index64 {T : TypeId} {n : Nat} (hu : Try.prog.underlying T = some (.array n 31)) {cs : Array Value} {t : Nat} {v : Value} (ht : t < n) (hc : cs[t]? = some v) (w : World) :
    (Instr.index T (.agg cs) (.int .i64 (t : Int))).run Try.prog w = .ok v w := by
  simp [Instr.index, run_underlying hu, asIntOf, ht, Try.sizeOf31, part, Try.isAgg31, hc, go_sem]


theorem zero_of {T : TypeId} {z : Value} (h : (Try.prog.info? T).map (·.zero) = some (some z)) (w : World) : (zeroValue T).run Try.prog w = .ok z w := by
  cases hq : Try.prog.info? T with
  | none => simp [hq] at h
  | some i =>
    have hs : i.zero = some z := by simpa [hq] using h
    simp [zeroValue, Sem.run_bind, typeInfo, hq, hs]
def zr (z : List Value) : Value := .agg z.toArray

def z40 : List Value := cs64 (List.replicate 4 0)
def z25 : List Value := cs8 (List.replicate 32 0)
theorem zero40 (w : World) : (zeroValue 40).run Try.prog w = .ok (.agg z40.toArray) w := zero_of (by kernel_rfl) w
theorem zero25 (w : World) : (zeroValue 25).run Try.prog w = .ok (.agg z25.toArray) w := zero_of (by kernel_rfl) w
theorem info40 : (Try.prog.info? 40).map (·.size) = some 4 := by kernel_rfl
theorem info25 : (Try.prog.info? 25).map (·.size) = some 32 := by kernel_rfl
theorem len_z40 : z40.length = 4 := by decide +kernel
theorem len_z25 : z25.length = 32 := by decide +kernel

/-- Block g holds the cells cs. -/
def Bk (w : World) (g : Nat) (cs : List Value) : Prop := ∃ t, w.heap[g]? = some (.cells cs.toArray t (0, 0))
section
variable {w w' : World} {g top : Nat} {cs : List Value}
theorem Bk.lt (h : Bk w g cs) : g < w.heap.size := by obtain ⟨t, h⟩ := h; exact (Array.getElem?_eq_some_iff.1 h).1
theorem Bk.new (w : World) (cs : List Value) (t : TypeId) : Bk (w.alloc (.cells cs.toArray t)) w.heap.size cs := ⟨t, heap_alloc_new w _⟩
theorem Bk.drew (h : Bk w g cs) : Bk w.drew g cs := h
theorem Bk.below (h : Bk w g cs) (hb : Below top w w') (hg : g < top) : Bk w' g cs := by
  obtain ⟨t, h⟩ := h
  exact ⟨t, (hb.block g hg).trans h⟩
theorem Bk.keep (h : Bk w g cs) (hb : Below w.heap.size w w') : Bk w' g cs := h.below hb h.lt
theorem Bk.old (h : Bk w g cs) (o : Obj) : Bk (w.alloc o) g cs := h.keep ((Below.refl _ _).alloc (Nat.le_refl _) o)
theorem Bk.cell (h : Bk w g cs) {k : Nat} {v : Value} (hv : cs[k]? = some v) : w.cell? ⟨g, k, none⟩ = some v := by
  obtain ⟨t, h⟩ := h
  rw [cell_of_row w g k _ t (0, 0) h]
  simpa using hv
theorem Bk.at_ (h : Bk w g cs) : ∀ (j : Nat) (v : Value), cs[j]? = some v → w.cell? ((⟨g, 0, none⟩ : Addr).add j) = some v := by
  intro j v hv
  have hadd : (⟨g, 0, none⟩ : Addr).add j = ⟨g, j, none⟩ := by unfold Addr.add; split <;> simp_all
  rw [hadd]
  exact h.cell hv
theorem Bk.setRow (h : Bk w g cs) (cs' : List Value) : Bk (w.setRow g cs'.toArray) g cs' := by
  obtain ⟨t, h⟩ := h
  exact ⟨t, setRow_heap w g _ _ t (0, 0) h⟩
theorem Bk.other {k : Nat} (h : Bk w g cs) (hk : g ≠ k) (cs' : Array Value) : Bk (w.setRow k cs') g cs := by
  obtain ⟨t, h⟩ := h
  refine ⟨t, ?_⟩
  rw [← h]
  simp only [World.setRow]
  rw [Array.getElem?_modify]
  simp [Ne.symm hk]
end

section
variable {P : Program}
/-- A whole array or struct read from wherever its cells lie. -/
theorem run_loadVar_at (w : World) (ad : Addr) (ty : TypeId) (cs : List Value) (d : TypeDesc) (hc : ∀ j v, cs[j]? = some v → w.cell? (ad.add j) = some v)
    (hu : P.underlying ty = some d) (hd : d.isRow = true) (hi : (P.info? ty).map (·.size) = some cs.length) :
    (loadVar ty ad).run P w = .ok (.agg cs.toArray) w := by
  have hl : (loadCells ad cs.length).run P w = .ok cs.toArray w := run_loadCells_list (P := P) w ad cs hc
  cases hq : P.info? ty with
  | none => simp [hq] at hi
  | some i =>
    have hs : i.size = cs.length := by simpa [hq] using hi
    have hagg : (isAgg ty).run P w = .ok true w := by
      unfold isAgg
      rw [Sem.run_bind, run_underlying hu w]
      cases d <;> simp_all
    simp [loadVar, Sem.run_bind, hagg, sizeOf, typeInfo, hq, hs, hl]

theorem exec_load_at {o : Oper} {a : Act} {w : World} (ty : TypeId) (x : Operand) (ho : o.op = .load ty x)
    (ad : Addr) (hx : a.eval x = .pointer (some ad)) (cs : List Value) (d : TypeDesc) (hc : ∀ j v, cs[j]? = some v → w.cell? (ad.add j) = some v)
    (hu : P.underlying ty = some d) (hd : d.isRow = true) (hi : (P.info? ty).map (·.size) = some cs.length) :
    (execOp a.eval o).run P w = .ok (.value (.agg cs.toArray)) w := by
  unfold execOp
  simp only [ho, hx, Instr.loadAt, Instr.sureAddr, Sem.run_bind, Sem.run_pure, Result.andThen_ok, run_loadVar_at w ad ty cs d hc hu hd hi]

theorem wp_load_at {op : Oper} {a : Act} {w : World} {K : Act → World → Prop} {Q : Exit → Act → World → Prop} (ty : TypeId) (x : Operand) (ho : op.op = .load ty x)
    (ad : Addr) (hx : a.eval x = .pointer (some ad)) (cs : List Value) (d : TypeDesc) (hc : ∀ j v, cs[j]? = some v → w.cell? (ad.add j) = some v)
    (hu : P.underlying ty = some d) (hd : d.isRow = true) (hi : (P.info? ty).map (·.size) = some cs.length)
    (h : K (a.put op.dst (.agg cs.toArray)) w) : op.wp P a w K Q := by
  unfold Oper.wp
  rw [exec_load_at ty x ho ad hx cs d hc hu hd hi]
  exact h

theorem wpList_load_at {ops : Array Oper} {rest : List Oper} {op : Oper} {a : Act} {w : World} {Q : Exit → Act → World → Prop} (hgd : op.guard = none) (ty : TypeId) (x : Operand) (ho : op.op = .load ty x)
    (ad : Addr) (hx : a.eval x = .pointer (some ad)) (cs : List Value) (d : TypeDesc) (hc : ∀ j v, cs[j]? = some v → w.cell? (ad.add j) = some v)
    (hu : P.underlying ty = some d) (hd : d.isRow = true) (hi : (P.info? ty).map (·.size) = some cs.length)
    (h : wpList P ops Q rest (a.put op.dst (.agg cs.toArray)) w) : wpList P ops Q (op :: rest) a w :=
  wpList_plain hgd fun _ hK => wp_load_at ty x ho ad hx cs d hc hu hd hi (hK _ _ h)

/-- A whole block written over. -/
theorem wp_store_bk {o : Oper} {a : Act} {w : World} {K : Act → World → Prop} {Q : Exit → Act → World → Prop} (ty : TypeId) (x y : Operand) (ho : o.op = .store ty x y)
    (g : Nat) (hx : a.eval x = .pointer (some ⟨g, 0, none⟩)) (cs old : List Value) (hy : a.eval y = .agg cs.toArray) (hg : Bk w g old) (hi : (P.info? ty).map (·.size) = some cs.length)
    (hold : old.length = cs.length) (h1 : cs.toArray.all (·.oneCell') = true)
    (h : K (a.put o.dst undef) (w.setRow g cs.toArray)) : o.wp P a w K Q := by
  obtain ⟨t, hg⟩ := hg
  exact wp_store_row ty x y ho g cs.toArray hx hy t old.toArray hg (by simpa using hi) (by simpa using hold) h1 h
theorem wpList_store_bk {ops : Array Oper} {rest : List Oper} {o : Oper} {a : Act} {w : World} {Q : Exit → Act → World → Prop} (hgd : o.guard = none) (ty : TypeId) (x y : Operand) (ho : o.op = .store ty x y)
    (g : Nat) (hx : a.eval x = .pointer (some ⟨g, 0, none⟩)) (cs old : List Value) (hy : a.eval y = .agg cs.toArray) (hg : Bk w g old) (hi : (P.info? ty).map (·.size) = some cs.length)
    (hold : old.length = cs.length) (h1 : cs.toArray.all (·.oneCell') = true)
    (h : wpList P ops Q rest (a.put o.dst undef) (w.setRow g cs.toArray)) : wpList P ops Q (o :: rest) a w :=
  wpList_plain hgd fun _ hK => wp_store_bk ty x y ho g hx cs old hy hg hi hold h1 (hK _ _ h)
end

/-- A new variable of an array's or a struct's type. -/
theorem wp_alloc_z {o : Oper} {a : Act} {w : World} {K : Act → World → Prop} {Q : Exit → Act → World → Prop} (T : TypeId) (ho : o.op = .alloc T) (z : List Value) (hz : ∀ w, (zeroValue T).run Try.prog w = .ok (.agg z.toArray) w)
    (h : K (a.put o.dst (.pointer (some ⟨w.heap.size, 0, none⟩))) (w.alloc (.cells z.toArray T))) : o.wp Try.prog a w K Q := by
  unfold Oper.wp execOp
  simp only [ho, Sem.run_bind, hz, Result.andThen_ok, Sem.run_pure, go_sem]
  exact h
theorem wpList_alloc_z {ops : Array Oper} {rest : List Oper} {o : Oper} {a : Act} {w : World} {Q : Exit → Act → World → Prop} (hgd : o.guard = none) (T : TypeId) (ho : o.op = .alloc T) (z : List Value) (hz : ∀ w, (zeroValue T).run Try.prog w = .ok (.agg z.toArray) w)
    (h : wpList Try.prog ops Q rest (a.put o.dst (.pointer (some ⟨w.heap.size, 0, none⟩))) (w.alloc (.cells z.toArray T))) : wpList Try.prog ops Q (o :: rest) a w :=
  wpList_plain hgd fun _ hK => wp_alloc_z T ho z hz (hK _ _ h)
theorem run_arrayAt {T e : TypeId} {m n c : Nat} {A : Option Addr} (hu : Try.prog.underlying T = some (.array m e)) (h : m ≤ n) (w : World) :
    (Instr.arrayAt T (.slice A n c)).run Try.prog w = .ok (.pointer A) w := by
  simp [Instr.arrayAt, run_underlying hu, Nat.not_lt.2 h]
theorem bl_setRow {w0 w : World} {g : Nat} (h : Below w0.heap.size w0 w) (hg : w0.heap.size ≤ g) (cs : Array Value) : Below w0.heap.size w0 (w.setRow g cs) := below_setRow h hg cs
/-- The result is read out of its variable. -/
theorem ret_bk {fn : Func} {p : Tmp} {ty : TypeId} (h : fn.results = #[.cell p ty]) {R : Ending → World → Prop} {a : Act} {w : World} (g : Nat) (cs : List Value) (d : TypeDesc)
    (hp : a.tmps.getD p undef = .pointer (some ⟨g, 0, none⟩)) (hd0 : a.defers = []) (hg : Bk w g cs) (hu : Try.prog.underlying ty = some d) (hd : d.isRow = true) (hi : (Try.prog.info? ty).map (·.size) = some cs.length)
    (hR : R (.returned (.agg cs.toArray)) w) : bodyPost Try.prog fn R .ret a w := by
  obtain ⟨t, hg⟩ := hg
  exact bodyPost_ret (results_cell_row h a.tmps w g t cs.toArray (0, 0) d hp hg hu (by cases d <;> first | rfl | cases hd) (by simpa using hi)) hd0 hR

theorem Rd.cells {w : World} {top n c : Nat} {ad : Addr} {l : List UInt8} (h : Rd w top (some ad) n c l) (hn : 0 < n) : ∀ (j : Nat) (v : Value), (cs8 l)[j]? = some v → w.cell? (ad.add j) = some v := by
  obtain ⟨ad', e, _, hc⟩ := h.2.2 hn
  injection e with e
  subst e
  intro j v hv
  rw [cs8, List.getElem?_map] at hv
  cases hx : l[j]? with
  | none => rw [hx] at hv; cases hv
  | some x => rw [hx] at hv; rw [hc j x hx]; simpa using hv

section
variable {w w' : World} {g top : Nat} {cs : List Value}
theorem Bk.frozen (h : Bk w g cs) (k : Nat) : w.frozen? ⟨g, k, none⟩ = false := by
  obtain ⟨t, h⟩ := h
  exact frozen_of_row w g k _ t h
theorem Bk.setCell (h : Bk w g cs) (k : Nat) (v : Value) : Bk (w.setCell ⟨g, k, none⟩ v) g (cs.set k v) := by
  obtain ⟨t, h⟩ := h
  refine ⟨t, ?_⟩
  rw [heap_setCell_same w g k _ t v h]
  simp
theorem Bk.setCell_ne {g' : Nat} (h : Bk w g cs) (hne : g ≠ g') (k : Nat) (v : Value) : Bk (w.setCell ⟨g', k, none⟩ v) g cs := by
  obtain ⟨t, h⟩ := h
  exact ⟨t, (heap_setCell_other w ⟨g', k, none⟩ g v hne).trans h⟩
theorem bl_setCell {w0 : World} (h : Below w0.heap.size w0 w) (hg : w0.heap.size ≤ g) (k : Nat) (v : Value) : Below w0.heap.size w0 (w.setCell ⟨g, k, none⟩ v) := bl_only h (Only.set w k v) hg

/-- What stays while one cell of block g is written: all but it. -/
structure Kc (g t : Nat) (w w' : World) : Prop where
  os : w'.os = w.os
  tape : w'.tape = w.tape
  output : w'.output = w.output
  size : w.heap.size ≤ w'.heap.size
  block : ∀ k, k < w.heap.size → k ≠ g → w'.heap[k]? = w.heap[k]?
  cell : g < w.heap.size → ∀ j, j ≠ t → w'.cell? ⟨g, j, none⟩ = w.cell? ⟨g, j, none⟩
theorem Kc.stays (g t : Nat) : Stays (Kc g t) :=
  ⟨fun _ => ⟨rfl, rfl, rfl, Nat.le_refl _, fun _ _ _ => rfl, fun _ _ _ => rfl⟩,
   fun h k => ⟨k.os.trans h.os, k.tape.trans h.tape, k.output.trans h.output, Nat.le_trans h.size k.size, fun i hi hm => (k.block i (Nat.lt_of_lt_of_le hi h.size) hm).trans (h.block i hi hm), fun hg j hj => (k.cell (Nat.lt_of_lt_of_le hg h.size) j hj).trans (h.cell hg j hj)⟩⟩
theorem Kc.of_old {t : Nat} (h : Below w.heap.size w w') : Kc g t w w' := ⟨h.os, h.tape, h.output, h.size, fun k hk _ => h.block k hk, fun hg _ _ => h.cell hg⟩
theorem cell_setCell_ne (w : World) (g k j : Nat) (v : Value) (hj : j ≠ k) : (w.setCell ⟨g, k, none⟩ v).cell? ⟨g, j, none⟩ = w.cell? ⟨g, j, none⟩ :=
  World.cell?_setCell_other w _ _ v (by simp; try omega)
theorem Kc.of_set {t : Nat} (w : World) (v : Value) : Kc g t w (w.setCell ⟨g, t, none⟩ v) :=
  ⟨rfl, rfl, rfl, by simp [World.setCell], fun k _ hne => heap_setCell_other w ⟨g, t, none⟩ k v hne, fun _ j hj => cell_setCell_ne w g t j v hj⟩
/-- A cell that is not the one written reads as it did. -/
theorem Kc.read {t k : Nat} {v : Value} (h : Kc g t w w') (hB : Bk w g cs) (hk : k ≠ t) (hv : cs[k]? = some v) : w'.cell? ⟨g, k, none⟩ = some v := (h.cell hB.lt k hk).trans (hB.cell hv)
end

theorem exec_load_cell {o : Oper} {a : Act} {w : World} (ty : TypeId) (x : Operand) (ho : o.op = .load ty x) (hag : ∀ w, (isAgg ty).run Try.prog w = .ok false w)
    {ad : Addr} (hx : a.eval x = .pointer (some ad)) {v : Value} (hc : w.cell? ad = some v) : (execOp a.eval o).run Try.prog w = .ok (.value v) w := by
  have hl : (loadVar ty ad).run Try.prog w = .ok v w := by simp [loadVar, Sem.run_bind, hag, hc, go_sem]
  unfold execOp
  simp only [ho, hx, Instr.loadAt, Instr.sureAddr, Sem.run_bind, Sem.run_pure, Result.andThen_ok, hl]

/-- A slice turned into a pointer to an array. -/
theorem wpList_arrayAt {ops : Array Oper} {rest : List Oper} {o : Oper} {a : Act} {w : World} {Q : Exit → Act → World → Prop} (hgd : o.guard = none) (T : TypeId) (x : Operand) (ho : o.op = .sliceToArrayPointer T x)
    {A : Option Addr} {n c m : Nat} {e : TypeId} (hx : a.eval x = .slice A n c) (hu : Try.prog.underlying T = some (.array m e)) (hm : m ≤ n)
    (h : wpList Try.prog ops Q rest (a.put o.dst (.pointer A)) w) : wpList Try.prog ops Q (o :: rest) a w := by
  refine wpList_plain hgd fun K hK => ?_
  unfold Oper.wp execOp
  simp only [ho, hx, run_arrayAt hu hm, Sem.run_bind, Result.andThen_ok, Sem.run_pure]
  exact hK _ _ h
theorem exec_arrayAt {o : Oper} {a : Act} {w : World} (T : TypeId) (x : Operand) (ho : o.op = .sliceToArrayPointer T x)
    {A : Option Addr} {n c m : Nat} {e : TypeId} (hx : a.eval x = .slice A n c) (hu : Try.prog.underlying T = some (.array m e)) (hm : m ≤ n) : (execOp a.eval o).run Try.prog w = .ok (.value (.pointer A)) w := by
  unfold execOp
  simp only [ho, hx, run_arrayAt hu hm, Sem.run_bind, Result.andThen_ok, Sem.run_pure]
theorem add_zero_mid (g k : Nat) : (⟨g, 0, none⟩ : Addr).add k = ⟨g, k, none⟩ := by unfold Addr.add; split <;> simp_all
/-- The part of an array of bytes from place k on, and the part up to place h. -/
theorem run_slice_lo {T : TypeId} {n : Nat} (hu : Try.prog.underlying T = some (.array n 5)) {g k : Nat} (hk : k < n) (i : Int) (hi : i = k) (w : World) :
    (Instr.sliceAt T (.pointer (some ⟨g, 0, none⟩)) (some (.int .i64 i)) none none).run Try.prog w = .ok (.slice (some ⟨g, k, none⟩) (n - k) (n - k)) w := by
  subst hi
  have h1 : ¬ n = k := by omega
  have h2 : (k : Int) ≤ (n : Int) := by omega
  simp [Instr.sliceAt, Instr.sureAddr, run_underlying hu, Instr.sliceBounds, run_sliceBound, h1, h2, Try.sizeOf5, add_zero_mid, go_sem]
theorem run_slice_hi {T : TypeId} {n : Nat} (hu : Try.prog.underlying T = some (.array n 5)) {g h : Nat} (hh : h ≤ n) (hn : 0 < n) (w : World) :
    (Instr.sliceAt T (.pointer (some ⟨g, 0, none⟩)) none (some (.int .i64 (h : Int))) none).run Try.prog w = .ok (.slice (some ⟨g, 0, none⟩) h n) w := by
  have h1 : ¬ n = 0 := by omega
  have h2 : (h : Int) ≤ (n : Int) := by omega
  simp [Instr.sliceAt, Instr.sureAddr, run_underlying hu, Instr.sliceBounds, run_sliceBound, h1, h2, Try.sizeOf5, add_zero_mid, go_sem]
theorem exec_addI {o : Oper} {a : Act} {w : World} (x y : Operand) (ho : o.op = .binOp .add 31 x y 31) {m n : Int} (hx : a.eval x = .int .u64 m) (hy : a.eval y = .int .u64 n) :
    (execOp a.eval o).run Try.prog w = .ok (.value (.int .u64 (IntKind.u64.wrap (m + n)))) w := by
  unfold execOp
  simp only [ho, hx, hy]
  simp [go_sem, Try.underlying31]
/-- A sum of words. -/
theorem exec_add64 {o : Oper} {a : Act} {w : World} (x y : Operand) (ho : o.op = .binOp .add 31 x y 31) {m n s : UInt64} (h : m + n = s) (hx : a.eval x = .int .u64 (m.toNat : Int)) (hy : a.eval y = .int .u64 (n.toNat : Int)) :
    (execOp a.eval o).run Try.prog w = .ok (.value (.int .u64 (s.toNat : Int))) w := by
  rw [exec_addI x y ho hx hy, addU, h]
/-- A word put into its cell. -/
theorem wp_store_cell {o : Oper} {a : Act} {w : World} {K : Act → World → Prop} {Q : Exit → Act → World → Prop} (x y : Operand) (ho : o.op = .store 31 x y) {g k : Nat} {v : Int} {cs : List Value}
    (hx : a.eval x = .pointer (some ⟨g, k, none⟩)) (hy : a.eval y = .int .u64 v) (hB : Bk w g cs) (hk : k < cs.length) (h : K (a.put o.dst undef) (w.setCell ⟨g, k, none⟩ (.int .u64 v))) : o.wp Try.prog a w K Q := by
  have hc := hB.cell (List.getElem?_eq_getElem hk)
  have hf := hB.frozen k
  unfold Oper.wp execOp
  simp only [ho, hx, hy]
  simp [Instr.storeAt, Instr.sureAddr, storeVar, storeCells, Try.sizeOf31, hc, hf, go_sem]
  exact h
theorem run_at64 {T : TypeId} {n : Nat} (hu : Try.prog.underlying T = some (.array n 31)) {g k : Nat} (hk : k < n) (w : World) :
    (Instr.indexAt T (.pointer (some ⟨g, 0, none⟩)) (.int .i64 (k : Int))).run Try.prog w = .ok (.pointer (some ⟨g, k, none⟩)) w := by
  simp [Instr.indexAt, Instr.sureAddr, run_underlying hu, asIntOf, hk, Try.sizeOf31, add_zero_mid, go_sem]
/-- The place of a word in an array of words. -/
theorem exec_at64 {o : Oper} {a : Act} {w : World} (T : TypeId) (x y : Operand) (ho : o.op = .indexAddr T x y) {n : Nat} (hu : Try.prog.underlying T = some (.array n 31)) {g k : Nat}
    (hx : a.eval x = .pointer (some ⟨g, 0, none⟩)) (hy : a.eval y = .int .i64 (k : Int)) (hk : k < n) : (execOp a.eval o).run Try.prog w = .ok (.value (.pointer (some ⟨g, k, none⟩))) w := by
  unfold execOp
  simp only [ho, hx, hy, run_at64 hu hk, Sem.run_bind, Result.andThen_ok, Sem.run_pure]

theorem Bk.kp {may : Nat → Prop} {w w' : World} {g : Nat} {cs : List Value} (h : Bk w g cs) (hk : Kp may w w') (hm : ¬ may g) : Bk w' g cs := by
  have hl := h.lt
  obtain ⟨t, h⟩ := h
  exact ⟨t, (hk.block g hl hm).trans h⟩
theorem kp_setRow {may : Nat → Prop} (w : World) (g : Nat) (cs : Array Value) (hm : may g) : Kp may w (w.setRow g cs) :=
  ⟨rfl, rfl, rfl, by simp [World.setRow], fun k _ hk => setRow_other w g k cs (fun e => hk (by rw [e]; exact hm))⟩
theorem kp_drew {may : Nat → Prop} (w : World) : Kp may w w.drew := Kp.of_old (Below.refl _ _).drew
theorem wp_val {o : Oper} {a : Act} {w : World} {K : Act → World → Prop} {Q : Exit → Act → World → Prop} (v : Value) (h : (execOp a.eval o).run Try.prog w = .ok (.value v) w) (hk : K (a.put o.dst v) w) : o.wp Try.prog a w K Q := by
  unfold Oper.wp
  rw [h]
  exact hk

theorem Kp.of_cellG {g : Nat} {w : World} (k : Nat) (u : Value) : Kp (· = g) w (w.setCell ⟨g, k, none⟩ u) := ⟨rfl, rfl, rfl, by simp [World.setCell], fun j _ hn => heap_setCell_other w ⟨g, k, none⟩ j u hn⟩

end Go.Proofs.Ytdfaliadkpdfpaa
