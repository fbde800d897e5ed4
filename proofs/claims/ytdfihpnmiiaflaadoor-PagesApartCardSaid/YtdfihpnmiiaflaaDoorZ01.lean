/- Texts of this claim, one behind the other: Ar, Ar2, Ar3, Bx, Shelf, Pw. -/
import Derived.Test.YtdfihpnmiiaflaaDoorZ00
import Derived.Test.YtdfihpnmiiaflaaDoorProg
import Derived.Deep.MidRow
import Derived.Laws.CopyOwn
import Derived.Shelf.Small.Bits
import Derived.Shelf.Strconv.Itoa0
import Derived.Shelf.Bits.Mul64
set_option linter.unusedSimpArgs false
set_option linter.unusedVariables false
section
/- Rows of words and bytes: read, written; a word read out of bytes. -/
namespace Go.Proofs.YtdfihpnmiiaflaaDoor
open Go.RowKit

/-- The cell of a word. -/
def B64 (u : UInt64) : Value := .int .u64 (u.toNat : Int)
def cs64 (l : List UInt64) : List Value := l.map B64
theorem cs64_length (l : List UInt64) : (cs64 l).length = l.length := by simp [cs64]
theorem cs64_one (l : List UInt64) : (cs64 l).toArray.all (·.oneCell') = true := by
  simp [cs64, B64]
  intro u _
  rfl
theorem cs8_all (l : List UInt8) : (cs8 l).toArray.all (·.oneCell') = true := by
  simp [cs8, B8]
  intro u _
  rfl

theorem run_index8 {T : TypeId} {n : Nat} (hu : Tryd.prog.underlying T = some (.array n 5)) {cs : Array Value} {t : Nat} {v : Value} (ht : t < n) (hc : cs[t]? = some v) (w : World) :
    (Instr.index T (.agg cs) (.int .i64 (t : Int))).run Tryd.prog w = .ok v w := by
  simp [Instr.index, run_underlying hu, asIntOf, ht, Tryd.sizeOf5, part, Tryd.isAgg5, hc, go_sem]
theorem run_index64 {T : TypeId} {n : Nat} (hu : Tryd.prog.underlying T = some (.array n 78)) {cs : Array Value} {t : Nat} {v : Value} (ht : t < n) (hc : cs[t]? = some v) (w : World) :
    (Instr.index T (.agg cs) (.int .i64 (t : Int))).run Tryd.prog w = .ok v w := by
  simp [Instr.index, run_underlying hu, asIntOf, ht, Tryd.sizeOf78, part, Tryd.isAgg78, hc, go_sem]

theorem info69 : (Tryd.prog.info? 143).map (·.size) = some 8 := by kernel_rfl
theorem info41 : (Tryd.prog.info? 130).map (·.size) = some 128 := by kernel_rfl
theorem info38 : (Tryd.prog.info? 87).map (·.size) = some 8 := by kernel_rfl
theorem info47 : (Tryd.prog.info? 97).map (·.size) = some 80 := by kernel_rfl
theorem info33 : (Tryd.prog.info? 85).map (·.size) = some 64 := by kernel_rfl
theorem info36 : (Tryd.prog.info? 75).map (·.size) = some 32 := by kernel_rfl
theorem info49 : (Tryd.prog.info? 99).map (·.size) = some 96 := by kernel_rfl
theorem info60 : (Tryd.prog.info? 106).map (·.size) = some 10 := by kernel_rfl

theorem foldW (p : List UInt8) (t : Nat) (h : t < p.length) : (p.take (t + 1)).foldl wordStep 0 = wordStep ((p.take t).foldl wordStep 0) p[t] := by
  rw [List.take_succ_eq_append_getElem h, List.foldl_append]; rfl

theorem step_word (N : UInt64) (b : UInt8) : bits .or .u64 (IntKind.u64.wrap ((N.toNat : Int) * 256)) (b.toNat : Int) = ((wordStep N b).toNat : Int) := by
  have e1 : IntKind.u64.wrap ((N.toNat : Int) * 256) = ((N.toNat * 256 % 18446744073709551616 : Nat) : Int) := by
    rw [← wrapN]; simp
  have hb : b.toNat < 256 := b.toNat_lt
  rw [e1, u64_or_nat _ _ (Nat.mod_lt _ (by omega)) (by omega), wordStep]
  have : N.toNat * 256 % 18446744073709551616 ||| b.toNat < 2 ^ 64 := Nat.or_lt_two_pow (by omega) (by omega)
  rw [toNat_of this]

set_option maxHeartbeats 400000 in
theorem Word_any (p : List UInt8) (hp : p.length = 8) (w : World) : Calls Tryd.prog 99 #[.agg (cs8 p).toArray] w fun e w' => e = .returned (.int .u64 ((wordOf p).toNat : Int)) ∧ Below w.heap.size w w' := by
  have HS := Lib.hid (show (cs8 p).toArray.size = 8 by simp [cs8, hp])
  go_enter Tryd.func99, Tryd.ntmps99
  go_wp2_with (refine wpList_load_row rfl 143 _ rfl w.heap.size rfl 143 _ (0, 0) _ (heap_alloc_new w _) Tryd.underlying143 rfl (by rw [HS.out]; exact info69) ?_)
  go_loopw [3, 7] (fun vn vi wr => ∃ t : Nat, t ≤ 8 ∧ vi = .int .i64 (t : Int) ∧ vn = .int .u64 ((((p.take t).foldl wordStep 0).toNat : Nat) : Int) ∧ Below w.heap.size w wr) (fun _ vi _ => 8 - (intOf vi).toNat)
  case atStart => exact ⟨0, by omega, rfl, by simp, (Below.refl _ _).alloc (Nat.le_refl _) _⟩
  case round =>
    obtain ⟨t, ht, rfl, rfl, hb⟩ := hrel
    by_cases hlt : t < 8
    · have hc : (cs8 p).toArray[t]? = some (.int .u8 ((p[t]'(by omega)).toNat : Int)) := by simp [cs8, hp, hlt, B8]
      have hx := run_index8 Tryd.underlying143 hlt hc
      have HN := Lib.hid (foldW p t (by omega))
      generalize (p.take t).foldl wordStep 0 = N at HN ⊢
      generalize p[t]'(by omega) = b at hc hx HN
      have HW := Lib.hid (step_word N b)
      have hbb : b.toNat < 256 := b.toNat_lt
      clear hc
      go_wp2
      go_roundw
      case rel => exact ⟨t + 1, by omega, by go_num, by rw [HW.out, HN.out], hb⟩
      case measure => simp [intOf]; omega
    · go_wp2
      go_ret
      obtain rfl : t = 8 := by omega
      rw [List.take_of_length_le (by omega)]
      exact ⟨rfl, hb⟩
end Go.Proofs.YtdfihpnmiiaflaaDoor
end
section
/- Blocks of cells: what they hold, kept, read and written as wholes; zero values. -/
namespace Go.Proofs.YtdfihpnmiiaflaaDoor
open Go.RowKit

theorem zero_of {T : TypeId} {z : Value} (h : (Tryd.prog.info? T).map (·.zero) = some (some z)) (w : World) : (zeroValue T).run Tryd.prog w = .ok z w := by
  cases hq : Tryd.prog.info? T with
  | none => simp [hq] at h
  | some i =>
    have hs : i.zero = some z := by simpa [hq] using h
    simp [zeroValue, Sem.run_bind, typeInfo, hq, hs]
def zr (z : List Value) : Value := .agg z.toArray
def z47 : List Value := cs64 (List.replicate 80 0)
def z33 : List Value := cs8 (List.replicate 64 0)
def z36 : List Value := cs8 (List.replicate 32 0)
def z38 : List Value := cs64 (List.replicate 8 0)
def z49 : List Value := cs64 (List.replicate 96 0)
def z60 : List Value := Value.pointer none :: (cs64 (List.replicate 8 0) ++ [Value.slice none 0 0])
theorem zero47 (w : World) : (zeroValue 97).run Tryd.prog w = .ok (.agg z47.toArray) w := zero_of (by kernel_rfl) w
theorem zero33 (w : World) : (zeroValue 85).run Tryd.prog w = .ok (.agg z33.toArray) w := zero_of (by kernel_rfl) w
theorem zero36 (w : World) : (zeroValue 75).run Tryd.prog w = .ok (.agg z36.toArray) w := zero_of (by kernel_rfl) w
theorem zero38 (w : World) : (zeroValue 87).run Tryd.prog w = .ok (.agg z38.toArray) w := zero_of (by kernel_rfl) w
theorem zero49 (w : World) : (zeroValue 99).run Tryd.prog w = .ok (.agg z49.toArray) w := zero_of (by kernel_rfl) w
theorem zero60 (w : World) : (zeroValue 106).run Tryd.prog w = .ok (.agg z60.toArray) w := zero_of (by kernel_rfl) w

/-- Block g holds the cells cs. -/
def Bk (w : World) (g : Nat) (cs : List Value) : Prop := ∃ t, w.heap[g]? = some (.cells cs.toArray t (0, 0))
section
variable {w w' : World} {g top : Nat} {cs : List Value}
theorem Bk.lt (h : Bk w g cs) : g < w.heap.size := by obtain ⟨t, h⟩ := h; exact (Array.getElem?_eq_some_iff.1 h).1
theorem Bk.new (w : World) (cs : List Value) (t : TypeId) : Bk (w.alloc (.cells cs.toArray t)) w.heap.size cs := ⟨t, heap_alloc_new w _⟩
theorem Bk.drew (h : Bk w g cs) : Bk w.drew g cs := h
theorem Bk.below (h : Bk w g cs) (hb : Below top w w') (hg : g < top) : Bk w' g cs := by
  obtain ⟨t, h⟩ := h
  exact ⟨t, (hb.block g hg).trans h⟩
theorem Bk.keep (h : Bk w g cs) (hb : Below w.heap.size w w') : Bk w' g cs := h.below hb h.lt
theorem Bk.old (h : Bk w g cs) (o : Obj) : Bk (w.alloc o) g cs := h.keep ((Below.refl _ _).alloc (Nat.le_refl _) o)
theorem Bk.cell (h : Bk w g cs) {k : Nat} {v : Value} (hv : cs[k]? = some v) : w.cell? ⟨g, k, none⟩ = some v := by
  obtain ⟨t, h⟩ := h
  rw [cell_of_row w g k _ t (0, 0) h]
  simpa using hv
theorem Bk.at_ (h : Bk w g cs) : ∀ (j : Nat) (v : Value), cs[j]? = some v → w.cell? ((⟨g, 0, none⟩ : Addr).add j) = some v := by
  intro j v hv
  have hadd : (⟨g, 0, none⟩ : Addr).add j = ⟨g, j, none⟩ := by unfold Addr.add; split <;> simp_all
  rw [hadd]
  exact h.cell hv
theorem Bk.setRow (h : Bk w g cs) (cs' : List Value) : Bk (w.setRow g cs'.toArray) g cs' := by
  obtain ⟨t, h⟩ := h
  exact ⟨t, setRow_heap w g _ _ t (0, 0) h⟩
theorem Bk.other {k : Nat} (h : Bk w g cs) (hk : g ≠ k) (cs' : Array Value) : Bk (w.setRow k cs') g cs := by
  obtain ⟨t, h⟩ := h
  refine ⟨t, ?_⟩
  rw [← h]
  simp only [World.setRow]
  rw [Array.getElem?_modify]
  simp [Ne.symm hk]
end

section
variable {P : Program}
/-- A whole array or struct read from wherever its cells lie. -/
theorem run_loadVar_at (w : World) (ad : Addr) (ty : TypeId) (cs : List Value) (d : TypeDesc) (hc : ∀ j v, cs[j]? = some v → w.cell? (ad.add j) = some v)
    (hu : P.underlying ty = some d) (hd : d.isRow = true) (hi : (P.info? ty).map (·.size) = some cs.length) :
    (loadVar ty ad).run P w = .ok (.agg cs.toArray) w := by
  have hl : (loadCells ad cs.length).run P w = .ok cs.toArray w := run_loadCells_list (P := P) w ad cs hc
  cases hq : P.info? ty with
  | none => simp [hq] at hi
  | some i =>
    have hs : i.size = cs.length := by simpa [hq] using hi
    have hagg : (isAgg ty).run P w = .ok true w := by
      unfold isAgg
      rw [Sem.run_bind, run_underlying hu w]
      cases d <;> simp_all
    simp [loadVar, Sem.run_bind, hagg, sizeOf, typeInfo, hq, hs, hl]

theorem exec_load_at {o : Oper} {a : Act} {w : World} (ty : TypeId) (x : Operand) (ho : o.op = .load ty x)
    (ad : Addr) (hx : a.eval x = .pointer (some ad)) (cs : List Value) (d : TypeDesc) (hc : ∀ j v, cs[j]? = some v → w.cell? (ad.add j) = some v)
    (hu : P.underlying ty = some d) (hd : d.isRow = true) (hi : (P.info? ty).map (·.size) = some cs.length) :
    (execOp a.eval o).run P w = .ok (.value (.agg cs.toArray)) w := by
  unfold execOp
  simp only [ho, hx, Instr.loadAt, Instr.sureAddr, Sem.run_bind, Sem.run_pure, Result.andThen_ok, run_loadVar_at w ad ty cs d hc hu hd hi]

theorem wp_load_at {op : Oper} {a : Act} {w : World} {K : Act → World → Prop} {Q : Exit → Act → World → Prop} (ty : TypeId) (x : Operand) (ho : op.op = .load ty x)
    (ad : Addr) (hx : a.eval x = .pointer (some ad)) (cs : List Value) (d : TypeDesc) (hc : ∀ j v, cs[j]? = some v → w.cell? (ad.add j) = some v)
    (hu : P.underlying ty = some d) (hd : d.isRow = true) (hi : (P.info? ty).map (·.size) = some cs.length)
    (h : K (a.put op.dst (.agg cs.toArray)) w) : op.wp P a w K Q := by
  unfold Oper.wp
  rw [exec_load_at ty x ho ad hx cs d hc hu hd hi]
  exact h

theorem wpList_load_at {ops : Array Oper} {rest : List Oper} {op : Oper} {a : Act} {w : World} {Q : Exit → Act → World → Prop} (hgd : op.guard = none) (ty : TypeId) (x : Operand) (ho : op.op = .load ty x)
    (ad : Addr) (hx : a.eval x = .pointer (some ad)) (cs : List Value) (d : TypeDesc) (hc : ∀ j v, cs[j]? = some v → w.cell? (ad.add j) = some v)
    (hu : P.underlying ty = some d) (hd : d.isRow = true) (hi : (P.info? ty).map (·.size) = some cs.length)
    (h : wpList P ops Q rest (a.put op.dst (.agg cs.toArray)) w) : wpList P ops Q (op :: rest) a w :=
  wpList_plain hgd fun _ hK => wp_load_at ty x ho ad hx cs d hc hu hd hi (hK _ _ h)

/-- A whole block written over. -/
theorem wp_store_bk {o : Oper} {a : Act} {w : World} {K : Act → World → Prop} {Q : Exit → Act → World → Prop} (ty : TypeId) (x y : Operand) (ho : o.op = .store ty x y)
    (g : Nat) (hx : a.eval x = .pointer (some ⟨g, 0, none⟩)) (cs old : List Value) (hy : a.eval y = .agg cs.toArray) (hg : Bk w g old) (hi : (P.info? ty).map (·.size) = some cs.length)
    (hold : old.length = cs.length) (h1 : cs.toArray.all (·.oneCell') = true)
    (h : K (a.put o.dst undef) (w.setRow g cs.toArray)) : o.wp P a w K Q := by
  obtain ⟨t, hg⟩ := hg
  exact wp_store_row ty x y ho g cs.toArray hx hy t old.toArray hg (by simpa using hi) (by simpa using hold) h1 h
theorem wpList_store_bk {ops : Array Oper} {rest : List Oper} {o : Oper} {a : Act} {w : World} {Q : Exit → Act → World → Prop} (hgd : o.guard = none) (ty : TypeId) (x y : Operand) (ho : o.op = .store ty x y)
    (g : Nat) (hx : a.eval x = .pointer (some ⟨g, 0, none⟩)) (cs old : List Value) (hy : a.eval y = .agg cs.toArray) (hg : Bk w g old) (hi : (P.info? ty).map (·.size) = some cs.length)
    (hold : old.length = cs.length) (h1 : cs.toArray.all (·.oneCell') = true)
    (h : wpList P ops Q rest (a.put o.dst undef) (w.setRow g cs.toArray)) : wpList P ops Q (o :: rest) a w :=
  wpList_plain hgd fun _ hK => wp_store_bk ty x y ho g hx cs old hy hg hi hold h1 (hK _ _ h)
end

/-- A new variable of an array's or a struct's type. -/
theorem wp_alloc_z {o : Oper} {a : Act} {w : World} {K : Act → World → Prop} {Q : Exit → Act → World → Prop} (T : TypeId) (ho : o.op = .alloc T) (z : List Value) (hz : ∀ w, (zeroValue T).run Tryd.prog w = .ok (.agg z.toArray) w)
    (h : K (a.put o.dst (.pointer (some ⟨w.heap.size, 0, none⟩))) (w.alloc (.cells z.toArray T))) : o.wp Tryd.prog a w K Q := by
  unfold Oper.wp execOp
  simp only [ho, Sem.run_bind, hz, Result.andThen_ok, Sem.run_pure, go_sem]
  exact h
theorem wpList_alloc_z {ops : Array Oper} {rest : List Oper} {o : Oper} {a : Act} {w : World} {Q : Exit → Act → World → Prop} (hgd : o.guard = none) (T : TypeId) (ho : o.op = .alloc T) (z : List Value) (hz : ∀ w, (zeroValue T).run Tryd.prog w = .ok (.agg z.toArray) w)
    (h : wpList Tryd.prog ops Q rest (a.put o.dst (.pointer (some ⟨w.heap.size, 0, none⟩))) (w.alloc (.cells z.toArray T))) : wpList Tryd.prog ops Q (o :: rest) a w :=
  wpList_plain hgd fun _ hK => wp_alloc_z T ho z hz (hK _ _ h)
theorem run_arrayAt {T e : TypeId} {m n c : Nat} {A : Option Addr} (hu : Tryd.prog.underlying T = some (.array m e)) (h : m ≤ n) (w : World) :
    (Instr.arrayAt T (.slice A n c)).run Tryd.prog w = .ok (.pointer A) w := by
  simp [Instr.arrayAt, run_underlying hu, Nat.not_lt.2 h]
theorem bl_setRow {w0 w : World} {g : Nat} (h : Below w0.heap.size w0 w) (hg : w0.heap.size ≤ g) (cs : Array Value) : Below w0.heap.size w0 (w.setRow g cs) := below_setRow h hg cs
/-- The result is read out of its variable. -/
theorem ret_bk {fn : Func} {p : Tmp} {ty : TypeId} (h : fn.results = #[.cell p ty]) {R : Ending → World → Prop} {a : Act} {w : World} (g : Nat) (cs : List Value) (d : TypeDesc)
    (hp : a.tmps.getD p undef = .pointer (some ⟨g, 0, none⟩)) (hd0 : a.defers = []) (hg : Bk w g cs) (hu : Tryd.prog.underlying ty = some d) (hd : d.isRow = true) (hi : (Tryd.prog.info? ty).map (·.size) = some cs.length)
    (hR : R (.returned (.agg cs.toArray)) w) : bodyPost Tryd.prog fn R .ret a w := by
  obtain ⟨t, hg⟩ := hg
  exact bodyPost_ret (results_cell_row h a.tmps w g t cs.toArray (0, 0) d hp hg hu (by cases d <;> first | rfl | cases hd) (by simpa using hi)) hd0 hR
theorem len_z47 : z47.length = 80 := by decide +kernel
theorem len_z33 : z33.length = 64 := by decide +kernel
theorem len_z36 : z36.length = 32 := by decide +kernel
theorem len_z38 : z38.length = 8 := by decide +kernel
theorem len_z49 : z49.length = 96 := by decide +kernel
theorem Rd.cells {w : World} {top n c : Nat} {ad : Addr} {l : List UInt8} (h : Rd w top (some ad) n c l) (hn : 0 < n) : ∀ (j : Nat) (v : Value), (cs8 l)[j]? = some v → w.cell? (ad.add j) = some v := by
  obtain ⟨ad', e, _, hc⟩ := h.2.2 hn
  injection e with e
  subst e
  intro j v hv
  rw [cs8, List.getElem?_map] at hv
  cases hx : l[j]? with
  | none => rw [hx] at hv; cases hv
  | some x => rw [hx] at hv; rw [hc j x hx]; simpa using hv
end Go.Proofs.YtdfihpnmiiaflaaDoor
end
section
/- Cells of a block: read and written one by one. -/
namespace Go.Proofs.YtdfihpnmiiaflaaDoor
open Go.RowKit
section
variable {w w' : World} {g top : Nat} {cs : List Value}
theorem Bk.frozen (h : Bk w g cs) (k : Nat) : w.frozen? ⟨g, k, none⟩ = false := by
  obtain ⟨t, h⟩ := h
  exact frozen_of_row w g k _ t h
theorem Bk.setCell (h : Bk w g cs) (k : Nat) (v : Value) : Bk (w.setCell ⟨g, k, none⟩ v) g (cs.set k v) := by
  obtain ⟨t, h⟩ := h
  refine ⟨t, ?_⟩
  rw [heap_setCell_same w g k _ t v h]
  simp
theorem Bk.setCell_ne {g' : Nat} (h : Bk w g cs) (hne : g ≠ g') (k : Nat) (v : Value) : Bk (w.setCell ⟨g', k, none⟩ v) g cs := by
  obtain ⟨t, h⟩ := h
  exact ⟨t, (heap_setCell_other w ⟨g', k, none⟩ g v hne).trans h⟩
theorem bl_setCell {w0 : World} (h : Below w0.heap.size w0 w) (hg : w0.heap.size ≤ g) (k : Nat) (v : Value) : Below w0.heap.size w0 (w.setCell ⟨g, k, none⟩ v) := bl_only h (Only.set w k v) hg

/-- What stays while one cell of block g is written: all but it. -/
structure Kc (g t : Nat) (w w' : World) : Prop where
  os : w'.os = w.os
  tape : w'.tape = w.tape
  output : w'.output = w.output
  size : w.heap.size ≤ w'.heap.size
  block : ∀ k, k < w.heap.size → k ≠ g → w'.heap[k]? = w.heap[k]?
  cell : g < w.heap.size → ∀ j, j ≠ t → w'.cell? ⟨g, j, none⟩ = w.cell? ⟨g, j, none⟩
theorem Kc.stays (g t : Nat) : Stays (Kc g t) :=
  ⟨fun _ => ⟨rfl, rfl, rfl, Nat.le_refl _, fun _ _ _ => rfl, fun _ _ _ => rfl⟩,
   fun h k => ⟨k.os.trans h.os, k.tape.trans h.tape, k.output.trans h.output, Nat.le_trans h.size k.size, fun i hi hm => (k.block i (Nat.lt_of_lt_of_le hi h.size) hm).trans (h.block i hi hm), fun hg j hj => (k.cell (Nat.lt_of_lt_of_le hg h.size) j hj).trans (h.cell hg j hj)⟩⟩
theorem Kc.of_old {t : Nat} (h : Below w.heap.size w w') : Kc g t w w' := ⟨h.os, h.tape, h.output, h.size, fun k hk _ => h.block k hk, fun hg _ _ => h.cell hg⟩
theorem cell_setCell_ne (w : World) (g k j : Nat) (v : Value) (hj : j ≠ k) : (w.setCell ⟨g, k, none⟩ v).cell? ⟨g, j, none⟩ = w.cell? ⟨g, j, none⟩ :=
  World.cell?_setCell_other w _ _ v (by simp; try omega)
theorem Kc.of_set {t : Nat} (w : World) (v : Value) : Kc g t w (w.setCell ⟨g, t, none⟩ v) :=
  ⟨rfl, rfl, rfl, by simp [World.setCell], fun k _ hne => heap_setCell_other w ⟨g, t, none⟩ k v hne, fun _ j hj => cell_setCell_ne w g t j v hj⟩
/-- A cell that is not the one written reads as it did. -/
theorem Kc.read {t k : Nat} {v : Value} (h : Kc g t w w') (hB : Bk w g cs) (hk : k ≠ t) (hv : cs[k]? = some v) : w'.cell? ⟨g, k, none⟩ = some v := (h.cell hB.lt k hk).trans (hB.cell hv)
end

theorem exec_load_cell {o : Oper} {a : Act} {w : World} (ty : TypeId) (x : Operand) (ho : o.op = .load ty x) (hag : ∀ w, (isAgg ty).run Tryd.prog w = .ok false w)
    {ad : Addr} (hx : a.eval x = .pointer (some ad)) {v : Value} (hc : w.cell? ad = some v) : (execOp a.eval o).run Tryd.prog w = .ok (.value v) w := by
  have hl : (loadVar ty ad).run Tryd.prog w = .ok v w := by simp [loadVar, Sem.run_bind, hag, hc, go_sem]
  unfold execOp
  simp only [ho, hx, Instr.loadAt, Instr.sureAddr, Sem.run_bind, Sem.run_pure, Result.andThen_ok, hl]

/-- A slice turned into a pointer to an array. -/
theorem wpList_arrayAt {ops : Array Oper} {rest : List Oper} {o : Oper} {a : Act} {w : World} {Q : Exit → Act → World → Prop} (hgd : o.guard = none) (T : TypeId) (x : Operand) (ho : o.op = .sliceToArrayPointer T x)
    {A : Option Addr} {n c m : Nat} {e : TypeId} (hx : a.eval x = .slice A n c) (hu : Tryd.prog.underlying T = some (.array m e)) (hm : m ≤ n)
    (h : wpList Tryd.prog ops Q rest (a.put o.dst (.pointer A)) w) : wpList Tryd.prog ops Q (o :: rest) a w := by
  refine wpList_plain hgd fun K hK => ?_
  unfold Oper.wp execOp
  simp only [ho, hx, run_arrayAt hu hm, Sem.run_bind, Result.andThen_ok, Sem.run_pure]
  exact hK _ _ h
theorem exec_arrayAt {o : Oper} {a : Act} {w : World} (T : TypeId) (x : Operand) (ho : o.op = .sliceToArrayPointer T x)
    {A : Option Addr} {n c m : Nat} {e : TypeId} (hx : a.eval x = .slice A n c) (hu : Tryd.prog.underlying T = some (.array m e)) (hm : m ≤ n) : (execOp a.eval o).run Tryd.prog w = .ok (.value (.pointer A)) w := by
  unfold execOp
  simp only [ho, hx, run_arrayAt hu hm, Sem.run_bind, Result.andThen_ok, Sem.run_pure]
theorem add_zero_mid (g k : Nat) : (⟨g, 0, none⟩ : Addr).add k = ⟨g, k, none⟩ := by unfold Addr.add; split <;> simp_all
/-- The part of an array of bytes from place k on, and the part up to place h. -/
theorem run_slice_lo {T : TypeId} {n : Nat} (hu : Tryd.prog.underlying T = some (.array n 5)) {g k : Nat} (hk : k < n) (i : Int) (hi : i = k) (w : World) :
    (Instr.sliceAt T (.pointer (some ⟨g, 0, none⟩)) (some (.int .i64 i)) none none).run Tryd.prog w = .ok (.slice (some ⟨g, k, none⟩) (n - k) (n - k)) w := by
  subst hi
  have h1 : ¬ n = k := by omega
  have h2 : (k : Int) ≤ (n : Int) := by omega
  simp [Instr.sliceAt, Instr.sureAddr, run_underlying hu, Instr.sliceBounds, run_sliceBound, h1, h2, Tryd.sizeOf5, add_zero_mid, go_sem]
theorem run_slice_hi {T : TypeId} {n : Nat} (hu : Tryd.prog.underlying T = some (.array n 5)) {g h : Nat} (hh : h ≤ n) (hn : 0 < n) (w : World) :
    (Instr.sliceAt T (.pointer (some ⟨g, 0, none⟩)) none (some (.int .i64 (h : Int))) none).run Tryd.prog w = .ok (.slice (some ⟨g, 0, none⟩) h n) w := by
  have h1 : ¬ n = 0 := by omega
  have h2 : (h : Int) ≤ (n : Int) := by omega
  simp [Instr.sliceAt, Instr.sureAddr, run_underlying hu, Instr.sliceBounds, run_sliceBound, h1, h2, Tryd.sizeOf5, add_zero_mid, go_sem]
theorem exec_addI {o : Oper} {a : Act} {w : World} (x y : Operand) (ho : o.op = .binOp .add 78 x y 78) {m n : Int} (hx : a.eval x = .int .u64 m) (hy : a.eval y = .int .u64 n) :
    (execOp a.eval o).run Tryd.prog w = .ok (.value (.int .u64 (IntKind.u64.wrap (m + n)))) w := by
  unfold execOp
  simp only [ho, hx, hy]
  simp [go_sem, Tryd.underlying78]
/-- A sum of words. -/
theorem exec_add64 {o : Oper} {a : Act} {w : World} (x y : Operand) (ho : o.op = .binOp .add 78 x y 78) {m n s : UInt64} (h : m + n = s) (hx : a.eval x = .int .u64 (m.toNat : Int)) (hy : a.eval y = .int .u64 (n.toNat : Int)) :
    (execOp a.eval o).run Tryd.prog w = .ok (.value (.int .u64 (s.toNat : Int))) w := by
  rw [exec_addI x y ho hx hy, addU, h]
/-- A word put into its cell. -/
theorem wp_store_cell {o : Oper} {a : Act} {w : World} {K : Act → World → Prop} {Q : Exit → Act → World → Prop} (x y : Operand) (ho : o.op = .store 78 x y) {g k : Nat} {v : Int} {cs : List Value}
    (hx : a.eval x = .pointer (some ⟨g, k, none⟩)) (hy : a.eval y = .int .u64 v) (hB : Bk w g cs) (hk : k < cs.length) (h : K (a.put o.dst undef) (w.setCell ⟨g, k, none⟩ (.int .u64 v))) : o.wp Tryd.prog a w K Q := by
  have hc := hB.cell (List.getElem?_eq_getElem hk)
  have hf := hB.frozen k
  unfold Oper.wp execOp
  simp only [ho, hx, hy]
  simp [Instr.storeAt, Instr.sureAddr, storeVar, storeCells, Tryd.sizeOf78, hc, hf, go_sem]
  exact h
theorem run_at64 {T : TypeId} {n : Nat} (hu : Tryd.prog.underlying T = some (.array n 78)) {g k : Nat} (hk : k < n) (w : World) :
    (Instr.indexAt T (.pointer (some ⟨g, 0, none⟩)) (.int .i64 (k : Int))).run Tryd.prog w = .ok (.pointer (some ⟨g, k, none⟩)) w := by
  simp [Instr.indexAt, Instr.sureAddr, run_underlying hu, asIntOf, hk, Tryd.sizeOf78, add_zero_mid, go_sem]
/-- The place of a word in an array of words. -/
theorem exec_at64 {o : Oper} {a : Act} {w : World} (T : TypeId) (x y : Operand) (ho : o.op = .indexAddr T x y) {n : Nat} (hu : Tryd.prog.underlying T = some (.array n 78)) {g k : Nat}
    (hx : a.eval x = .pointer (some ⟨g, 0, none⟩)) (hy : a.eval y = .int .i64 (k : Int)) (hk : k < n) : (execOp a.eval o).run Tryd.prog w = .ok (.value (.pointer (some ⟨g, k, none⟩))) w := by
  unfold execOp
  simp only [ho, hx, hy, run_at64 hu hk, Sem.run_bind, Result.andThen_ok, Sem.run_pure]
end Go.Proofs.YtdfihpnmiiaflaaDoor
end
section
/- Operations on words, one by one. -/
namespace Go.Proofs.YtdfihpnmiiaflaaDoor
set_option maxRecDepth 8192
open Go.RowKit
theorem exec_and64 {o : Oper} {a : Act} {w : World} (x y : Operand) (ho : o.op = .binOp .and 78 x y 78) {m n s : UInt64} (h : m &&& n = s) (hx : a.eval x = .int .u64 (m.toNat : Int)) (hy : a.eval y = .int .u64 (n.toNat : Int)) :
    (execOp a.eval o).run Tryd.prog w = .ok (.value (.int .u64 (s.toNat : Int))) w := by
  have e := andU m n
  rw [h] at e
  unfold execOp
  simp only [ho, hx, hy]
  simp [go_sem, e]
theorem exec_xor64 {o : Oper} {a : Act} {w : World} (x y : Operand) (ho : o.op = .binOp .xor 78 x y 78) {m n s : UInt64} (h : m ^^^ n = s) (hx : a.eval x = .int .u64 (m.toNat : Int)) (hy : a.eval y = .int .u64 (n.toNat : Int)) :
    (execOp a.eval o).run Tryd.prog w = .ok (.value (.int .u64 (s.toNat : Int))) w := by
  have e := xorU m n
  rw [h] at e
  unfold execOp
  simp only [ho, hx, hy]
  simp [go_sem, e]
theorem notX (m : UInt64) : 18446744073709551615 ^^^ m = ~~~m := by
  apply UInt64.eq_of_toBitVec_eq
  rw [UInt64.toBitVec_xor, UInt64.toBitVec_not]
  exact BitVec.allOnes_xor
theorem exec_not64 {o : Oper} {a : Act} {w : World} (x : Operand) (ho : o.op = .unOp .xor 78 x) {m s : UInt64} (h : ~~~m = s) (hx : a.eval x = .int .u64 (m.toNat : Int)) :
    (execOp a.eval o).run Tryd.prog w = .ok (.value (.int .u64 (s.toNat : Int))) w := by
  unfold execOp
  simp only [ho, hx]
  simp [go_sem]
  have e := xorU 18446744073709551615 m
  rw [notX, h] at e
  rw [← e]
  rfl
end Go.Proofs.YtdfihpnmiiaflaaDoor
end
section
/-
  DERIVED: THE SHELF's CONTRACTS AT THIS DUMP, IN PLAIN WORDS (tools/lay-plain.mjs' form; numbers turned for this seat): THE SAME DECLARATIONS: 'import', 'namespace', 'open', 'def', 'theorem' AND NOTHING ELSE. Each laying: the table of numbers ('.._ren') and one theorem, a field a fact of the dump's own or the kernel's comparison; each contract: ONE APPLICATION.
-/
namespace Go.Proofs
open Go.Shelf
def Tryd.lays129_ren : Go.Shelf.Ren := ⟨fun | 129 => 88 | n => n, fun | 53 => 78 | 3 => 3 | 4 => 4 | 46 => 91 | 5 => 5 | 9 => 9 | n => n, fun | n => n⟩
theorem Tryd.lays129 : Go.Proofs.Lays.n129 Tryd.prog Tryd.lays129_ren := {
  mixed := by kernel_rfl
  f129 := Tryd.func88.trans (congrArg some (by kernel_rfl))
  t3 := Tryd.underlying3
  a3 := Tryd.isAgg3
  z3 := Tryd.sizeOf3
  v3 := Tryd.zeroValue3
  t4 := Tryd.underlying4
  a4 := Tryd.isAgg4
  z4 := Tryd.sizeOf4
  v4 := Tryd.zeroValue4
  t5 := Tryd.underlying5
  a5 := Tryd.isAgg5
  z5 := Tryd.sizeOf5
  v5 := Tryd.zeroValue5
  t9 := Tryd.underlying9
  a9 := Tryd.isAgg9
  z9 := Tryd.sizeOf9
  v9 := Tryd.zeroValue9
  t46 := Tryd.underlying91
  a46 := Tryd.isAgg91
  z46 := Tryd.sizeOf91
  v46 := Tryd.zeroValue91
  t53 := Tryd.underlying78
  a53 := Tryd.isAgg78
  z53 := Tryd.sizeOf78
  v53 := Tryd.zeroValue78 }
/-- bits.Len64: "Len64 returns the minimum number of bits required to represent x; the result is 0 for x == 0.": IT RETURNS 'Lib.bitLen x'; the world is as it was. ('h0', 'h1': x is a uint64.) (LAID: no walk: one application.) -/
theorem Tryd.bits_Len64 (x : Int) (w : World) (h0 : 0 ≤ x) (h1 : x ≤ 18446744073709551615) :
    Calls Tryd.prog 88 #[.int .u64 x] w fun e w' => e = .returned (.int .i64 (Lib.bitLen x.toNat)) ∧ w' = w := Any.bits_Len64 Tryd.lays129 x w h0 h1
def Tryd.lays264_ren : Go.Shelf.Ren := ⟨fun | 264 => 76 | n => n, fun | 53 => 78 | 46 => 91 | n => n, fun | n => n⟩
theorem Tryd.lays264 : Go.Proofs.Lays.n264 Tryd.prog Tryd.lays264_ren := {
  mixed := by kernel_rfl
  f264 := Tryd.func76.trans (congrArg some (by kernel_rfl))
  t46 := Tryd.underlying91
  a46 := Tryd.isAgg91
  z46 := Tryd.sizeOf91
  v46 := Tryd.zeroValue91
  t53 := Tryd.underlying78
  a53 := Tryd.isAgg78
  z53 := Tryd.sizeOf78
  v53 := Tryd.zeroValue78 }
open Go.RowKit Go.Lib in
theorem Tryd.bits_Mul64 (x y : Nat) (hx : x < 18446744073709551616) (hy : y < 18446744073709551616) (w : World) :
    Calls Tryd.prog 76 #[.int .u64 x, .int .u64 y] w fun e w' => e = .returned (.tuple #[.int .u64 ((x * y / 18446744073709551616 : Nat) : Int), .int .u64 ((x * y % 18446744073709551616 : Nat) : Int)]) ∧ w' = w := Any.bits_Mul64 Tryd.lays264 x y hx hy w
end Go.Proofs
end
section
/- Words put as bytes: putWord, signs, padding. -/
namespace Go.Proofs.YtdfihpnmiiaflaaDoor
open Go.RowKit

/-- What every call that answers new bytes leaves. -/
def Gives (w : World) (l : List UInt8) (e : Ending) (w' : World) : Prop := ∃ v, e = .returned v ∧ Ow w' w.heap.size v l ∧ Below w.heap.size w w'
theorem Gives.mk {w w' : World} {l : List UInt8} {v : Value} (h : Ow w' w.heap.size v l) (hb : Below w.heap.size w w') : Gives w l (.returned v) w' := ⟨v, rfl, h, hb⟩

theorem wordB_length (n : UInt64) : ∀ t, (wordB t n).length = t
  | 0 => rfl
  | t + 1 => by simp [wordB, wordB_length n t]

theorem byte_at (n : UInt64) (k : Nat) : ((n.toNat : Int) / 2 ^ k % 256).toNat = n.toNat / 2 ^ k % 256 := by
  have : ((n.toNat : Int) / 2 ^ k % 256) = ((n.toNat / 2 ^ k % 256 : Nat) : Int) := by simp
  rw [this]
  exact Int.toNat_natCast _

set_option maxHeartbeats 400000 in
set_option maxRecDepth 3000 in
theorem putWord_any (v : Value) (n : UInt64) (w : World) (base : Nat) (xs : List UInt8) (hown : Ow w base v xs) (hbase : base ≤ w.heap.size) (hx : xs.length ≤ 8589934592) :
    Calls Tryd.prog 77 #[v, .int .u64 (n.toNat : Int)] w fun e w' => ∃ v', e = .returned v' ∧ Ow w' base v' (xs ++ wordB 8 n) ∧ Below base w w' := by
  have hn : n.toNat < 18446744073709551616 := n.toNat_lt
  go_enter Tryd.func77, Tryd.ntmps77
  go_wp2
  go_loopw [0, 6] (fun v i wr => ∃ t : Nat, t ≤ 8 ∧ i = .int .i64 (t : Int) ∧ Ow wr base v (xs ++ wordB t n) ∧ base ≤ wr.heap.size ∧ Below base w wr) (fun _ i _ => 8 - (intOf i).toNat)
  case atStart => exact ⟨0, by omega, rfl, by simpa [wordB] using hown, hbase, Below.refl _ _⟩
  case round =>
    obtain ⟨t, ht, rfl, ho, hs, hb⟩ := hrel
    by_cases hlt : t < 8
    · have hx0 := Lib.hid (show 0 ≤ (n.toNat : Int) / 2 ^ (56 - 8 * t) % 256 from Int.emod_nonneg _ (by omega))
      have hx1 := Lib.hid (show (n.toNat : Int) / 2 ^ (56 - 8 * t) % 256 < 256 from Int.emod_lt_of_pos _ (by omega))
      have hstep : Hid (xs ++ wordB t n ++ [UInt8.ofNat ((n.toNat : Int) / 2 ^ (56 - 8 * t) % 256).toNat] = xs ++ wordB (t + 1) n) := by
        rw [byte_at, wordB, List.append_assoc]
        exact Lib.hid rfl
      have hw := wordB_length n t
      go_wp2_with (at_builtin; refine wpList_app rfl _ _ rfl rfl (ho.alloc _) rfl (Rd.lit1 wr _ hx0.out hx1.out) (by simp; omega) (by simp; omega) ?_; intro v2 w2 ho2 hg2 hv2)
      go_roundw
      case rel => exact ⟨t + 1, by omega, by go_num, by rw [← hstep.out]; exact ho2, (by have := hg2.size; simp at this; omega), hb.trans (((Below.refl _ _).alloc hs _).grown hg2 (by simp; omega) (fun k hk => (World.ownsRow.lt ho k hk).1))⟩
      case measure => simp [intOf]; omega
    · go_wp2
      go_ret
      obtain rfl : t = 8 := by omega
      exact ⟨_, rfl, ho, hb⟩
end Go.Proofs.YtdfihpnmiiaflaaDoor
end
