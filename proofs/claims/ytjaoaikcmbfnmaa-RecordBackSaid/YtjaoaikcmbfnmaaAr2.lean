/- Blocks of cells: what they hold, kept, read and written as wholes; zero values. -/
import Derived.Test.YtjaoaikcmbfnmaaAr
import Derived.Deep.MidRow
import Derived.Laws.CopyOwn
namespace Go.Proofs.Ytjaoaikcmbfnmaa
open Go.RowKit

theorem zero_of {T : TypeId} {z : Value} (h : (Try.prog.info? T).map (·.zero) = some (some z)) (w : World) : (zeroValue T).run Try.prog w = .ok z w := by
  cases hq : Try.prog.info? T with
  | none => simp [hq] at h
  | some i =>
    have hs : i.zero = some z := by simpa [hq] using h
    simp [zeroValue, Sem.run_bind, typeInfo, hq, hs]
def zr (z : List Value) : Value := .agg z.toArray
def z47 : List Value := cs64 (List.replicate 80 0)
def z33 : List Value := cs8 (List.replicate 64 0)
def z36 : List Value := cs8 (List.replicate 32 0)
def z38 : List Value := cs64 (List.replicate 8 0)
def z49 : List Value := cs64 (List.replicate 96 0)
def z60 : List Value := Value.pointer none :: (cs64 (List.replicate 8 0) ++ [Value.slice none 0 0])
theorem zero47 (w : World) : (zeroValue 65).run Try.prog w = .ok (.agg z47.toArray) w := zero_of (by kernel_rfl) w
theorem zero33 (w : World) : (zeroValue 70).run Try.prog w = .ok (.agg z33.toArray) w := zero_of (by kernel_rfl) w
theorem zero36 (w : World) : (zeroValue 23).run Try.prog w = .ok (.agg z36.toArray) w := zero_of (by kernel_rfl) w
theorem zero38 (w : World) : (zeroValue 66).run Try.prog w = .ok (.agg z38.toArray) w := zero_of (by kernel_rfl) w
theorem zero49 (w : World) : (zeroValue 68).run Try.prog w = .ok (.agg z49.toArray) w := zero_of (by kernel_rfl) w
theorem zero60 (w : World) : (zeroValue 85).run Try.prog w = .ok (.agg z60.toArray) w := zero_of (by kernel_rfl) w

/-- Block g holds the cells cs. -/
def Bk (w : World) (g : Nat) (cs : List Value) : Prop := ∃ t, w.heap[g]? = some (.cells cs.toArray t (0, 0))
section
variable {w w' : World} {g top : Nat} {cs : List Value}
theorem Bk.lt (h : Bk w g cs) : g < w.heap.size := by obtain ⟨t, h⟩ := h; exact (Array.getElem?_eq_some_iff.1 h).1
theorem Bk.new (w : World) (cs : List Value) (t : TypeId) : Bk (w.alloc (.cells cs.toArray t)) w.heap.size cs := ⟨t, heap_alloc_new w _⟩
theorem Bk.drew (h : Bk w g cs) : Bk w.drew g cs := h
theorem Bk.below (h : Bk w g cs) (hb : Below top w w') (hg : g < top) : Bk w' g cs := by
  obtain ⟨t, h⟩ := h
  exact ⟨t, (hb.block g hg).trans h⟩
theorem Bk.keep (h : Bk w g cs) (hb : Below w.heap.size w w') : Bk w' g cs := h.below hb h.lt
theorem Bk.old (h : Bk w g cs) (o : Obj) : Bk (w.alloc o) g cs := h.keep ((Below.refl _ _).alloc (Nat.le_refl _) o)
theorem Bk.cell (h : Bk w g cs) {k : Nat} {v : Value} (hv : cs[k]? = some v) : w.cell? ⟨g, k, none⟩ = some v := by
  obtain ⟨t, h⟩ := h
  rw [cell_of_row w g k _ t (0, 0) h]
  simpa using hv
theorem Bk.at_ (h : Bk w g cs) : ∀ (j : Nat) (v : Value), cs[j]? = some v → w.cell? ((⟨g, 0, none⟩ : Addr).add j) = some v := by
  intro j v hv
  have hadd : (⟨g, 0, none⟩ : Addr).add j = ⟨g, j, none⟩ := by unfold Addr.add; split <;> simp_all
  rw [hadd]
  exact h.cell hv
theorem Bk.setRow (h : Bk w g cs) (cs' : List Value) : Bk (w.setRow g cs'.toArray) g cs' := by
  obtain ⟨t, h⟩ := h
  exact ⟨t, setRow_heap w g _ _ t (0, 0) h⟩
theorem Bk.other {k : Nat} (h : Bk w g cs) (hk : g ≠ k) (cs' : Array Value) : Bk (w.setRow k cs') g cs := by
  obtain ⟨t, h⟩ := h
  refine ⟨t, ?_⟩
  rw [← h]
  simp only [World.setRow]
  rw [Array.getElem?_modify]
  simp [Ne.symm hk]
end

section
variable {P : Program}
/-- A whole array or struct read from wherever its cells lie. -/
theorem run_loadVar_at (w : World) (ad : Addr) (ty : TypeId) (cs : List Value) (d : TypeDesc) (hc : ∀ j v, cs[j]? = some v → w.cell? (ad.add j) = some v)
    (hu : P.underlying ty = some d) (hd : d.isRow = true) (hi : (P.info? ty).map (·.size) = some cs.length) :
    (loadVar ty ad).run P w = .ok (.agg cs.toArray) w := by
  have hl : (loadCells ad cs.length).run P w = .ok cs.toArray w := run_loadCells_list (P := P) w ad cs hc
  cases hq : P.info? ty with
  | none => simp [hq] at hi
  | some i =>
    have hs : i.size = cs.length := by simpa [hq] using hi
    have hagg : (isAgg ty).run P w = .ok true w := by
      unfold isAgg
      rw [Sem.run_bind, run_underlying hu w]
      cases d <;> simp_all
    simp [loadVar, Sem.run_bind, hagg, sizeOf, typeInfo, hq, hs, hl]

theorem exec_load_at {o : Oper} {a : Act} {w : World} (ty : TypeId) (x : Operand) (ho : o.op = .load ty x)
    (ad : Addr) (hx : a.eval x = .pointer (some ad)) (cs : List Value) (d : TypeDesc) (hc : ∀ j v, cs[j]? = some v → w.cell? (ad.add j) = some v)
    (hu : P.underlying ty = some d) (hd : d.isRow = true) (hi : (P.info? ty).map (·.size) = some cs.length) :
    (execOp a.eval o).run P w = .ok (.value (.agg cs.toArray)) w := by
  unfold execOp
  simp only [ho, hx, Instr.loadAt, Instr.sureAddr, Sem.run_bind, Sem.run_pure, Result.andThen_ok, run_loadVar_at w ad ty cs d hc hu hd hi]

theorem wp_load_at {op : Oper} {a : Act} {w : World} {K : Act → World → Prop} {Q : Exit → Act → World → Prop} (ty : TypeId) (x : Operand) (ho : op.op = .load ty x)
    (ad : Addr) (hx : a.eval x = .pointer (some ad)) (cs : List Value) (d : TypeDesc) (hc : ∀ j v, cs[j]? = some v → w.cell? (ad.add j) = some v)
    (hu : P.underlying ty = some d) (hd : d.isRow = true) (hi : (P.info? ty).map (·.size) = some cs.length)
    (h : K (a.put op.dst (.agg cs.toArray)) w) : op.wp P a w K Q := by
  unfold Oper.wp
  rw [exec_load_at ty x ho ad hx cs d hc hu hd hi]
  exact h

theorem wpList_load_at {ops : Array Oper} {rest : List Oper} {op : Oper} {a : Act} {w : World} {Q : Exit → Act → World → Prop} (hgd : op.guard = none) (ty : TypeId) (x : Operand) (ho : op.op = .load ty x)
    (ad : Addr) (hx : a.eval x = .pointer (some ad)) (cs : List Value) (d : TypeDesc) (hc : ∀ j v, cs[j]? = some v → w.cell? (ad.add j) = some v)
    (hu : P.underlying ty = some d) (hd : d.isRow = true) (hi : (P.info? ty).map (·.size) = some cs.length)
    (h : wpList P ops Q rest (a.put op.dst (.agg cs.toArray)) w) : wpList P ops Q (op :: rest) a w :=
  wpList_plain hgd fun _ hK => wp_load_at ty x ho ad hx cs d hc hu hd hi (hK _ _ h)

/-- A whole block written over. -/
theorem wp_store_bk {o : Oper} {a : Act} {w : World} {K : Act → World → Prop} {Q : Exit → Act → World → Prop} (ty : TypeId) (x y : Operand) (ho : o.op = .store ty x y)
    (g : Nat) (hx : a.eval x = .pointer (some ⟨g, 0, none⟩)) (cs old : List Value) (hy : a.eval y = .agg cs.toArray) (hg : Bk w g old) (hi : (P.info? ty).map (·.size) = some cs.length)
    (hold : old.length = cs.length) (h1 : cs.toArray.all (·.oneCell') = true)
    (h : K (a.put o.dst undef) (w.setRow g cs.toArray)) : o.wp P a w K Q := by
  obtain ⟨t, hg⟩ := hg
  exact wp_store_row ty x y ho g cs.toArray hx hy t old.toArray hg (by simpa using hi) (by simpa using hold) h1 h
theorem wpList_store_bk {ops : Array Oper} {rest : List Oper} {o : Oper} {a : Act} {w : World} {Q : Exit → Act → World → Prop} (hgd : o.guard = none) (ty : TypeId) (x y : Operand) (ho : o.op = .store ty x y)
    (g : Nat) (hx : a.eval x = .pointer (some ⟨g, 0, none⟩)) (cs old : List Value) (hy : a.eval y = .agg cs.toArray) (hg : Bk w g old) (hi : (P.info? ty).map (·.size) = some cs.length)
    (hold : old.length = cs.length) (h1 : cs.toArray.all (·.oneCell') = true)
    (h : wpList P ops Q rest (a.put o.dst undef) (w.setRow g cs.toArray)) : wpList P ops Q (o :: rest) a w :=
  wpList_plain hgd fun _ hK => wp_store_bk ty x y ho g hx cs old hy hg hi hold h1 (hK _ _ h)
end

/-- A new variable of an array's or a struct's type. -/
theorem wp_alloc_z {o : Oper} {a : Act} {w : World} {K : Act → World → Prop} {Q : Exit → Act → World → Prop} (T : TypeId) (ho : o.op = .alloc T) (z : List Value) (hz : ∀ w, (zeroValue T).run Try.prog w = .ok (.agg z.toArray) w)
    (h : K (a.put o.dst (.pointer (some ⟨w.heap.size, 0, none⟩))) (w.alloc (.cells z.toArray T))) : o.wp Try.prog a w K Q := by
  unfold Oper.wp execOp
  simp only [ho, Sem.run_bind, hz, Result.andThen_ok, Sem.run_pure, go_sem]
  exact h
theorem wpList_alloc_z {ops : Array Oper} {rest : List Oper} {o : Oper} {a : Act} {w : World} {Q : Exit → Act → World → Prop} (hgd : o.guard = none) (T : TypeId) (ho : o.op = .alloc T) (z : List Value) (hz : ∀ w, (zeroValue T).run Try.prog w = .ok (.agg z.toArray) w)
    (h : wpList Try.prog ops Q rest (a.put o.dst (.pointer (some ⟨w.heap.size, 0, none⟩))) (w.alloc (.cells z.toArray T))) : wpList Try.prog ops Q (o :: rest) a w :=
  wpList_plain hgd fun _ hK => wp_alloc_z T ho z hz (hK _ _ h)
theorem run_arrayAt {T e : TypeId} {m n c : Nat} {A : Option Addr} (hu : Try.prog.underlying T = some (.array m e)) (h : m ≤ n) (w : World) :
    (Instr.arrayAt T (.slice A n c)).run Try.prog w = .ok (.pointer A) w := by
  simp [Instr.arrayAt, run_underlying hu, Nat.not_lt.2 h]
theorem bl_setRow {w0 w : World} {g : Nat} (h : Below w0.heap.size w0 w) (hg : w0.heap.size ≤ g) (cs : Array Value) : Below w0.heap.size w0 (w.setRow g cs) := below_setRow h hg cs
/-- The result is read out of its variable. -/
theorem ret_bk {fn : Func} {p : Tmp} {ty : TypeId} (h : fn.results = #[.cell p ty]) {R : Ending → World → Prop} {a : Act} {w : World} (g : Nat) (cs : List Value) (d : TypeDesc)
    (hp : a.tmps.getD p undef = .pointer (some ⟨g, 0, none⟩)) (hd0 : a.defers = []) (hg : Bk w g cs) (hu : Try.prog.underlying ty = some d) (hd : d.isRow = true) (hi : (Try.prog.info? ty).map (·.size) = some cs.length)
    (hR : R (.returned (.agg cs.toArray)) w) : bodyPost Try.prog fn R .ret a w := by
  obtain ⟨t, hg⟩ := hg
  exact bodyPost_ret (results_cell_row h a.tmps w g t cs.toArray (0, 0) d hp hg hu (by cases d <;> first | rfl | cases hd) (by simpa using hi)) hd0 hR
theorem len_z47 : z47.length = 80 := by decide +kernel
theorem len_z33 : z33.length = 64 := by decide +kernel
theorem len_z36 : z36.length = 32 := by decide +kernel
theorem len_z38 : z38.length = 8 := by decide +kernel
theorem len_z49 : z49.length = 96 := by decide +kernel
theorem Rd.cells {w : World} {top n c : Nat} {ad : Addr} {l : List UInt8} (h : Rd w top (some ad) n c l) (hn : 0 < n) : ∀ (j : Nat) (v : Value), (cs8 l)[j]? = some v → w.cell? (ad.add j) = some v := by
  obtain ⟨ad', e, _, hc⟩ := h.2.2 hn
  injection e with e
  subst e
  intro j v hv
  rw [cs8, List.getElem?_map] at hv
  cases hx : l[j]? with
  | none => rw [hx] at hv; cases hv
  | some x => rw [hx] at hv; rw [hc j x hx]; simpa using hv
end Go.Proofs.Ytjaoaikcmbfnmaa
