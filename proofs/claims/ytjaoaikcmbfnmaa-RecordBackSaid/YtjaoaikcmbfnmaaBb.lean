/- RecordBack: a slice of one, built. -/
import Derived.Test.YtjaoaikcmbfnmaaBa
import Derived.Great.BuildSlice
namespace Go.Proofs.Ytjaoaikcmbfnmaa
set_option maxRecDepth 100000
set_option linter.unusedSimpArgs false
set_option linter.unusedVariables false
open Go.RowKit

theorem foldl_put (cs : List Value) : ∀ (k : Nat) (acc : List Value), k + cs.length = acc.length →
    (cs.zipIdx k).foldl (fun (a : Array Value) x => a.setIfInBounds x.2 x.1) acc.toArray = (acc.take k ++ cs).toArray := by
  induction cs with
  | nil =>
    intro k acc h
    rw [List.length_nil] at h
    simp [List.take_of_length_le (show acc.length ≤ k by omega)]
  | cons c t ih =>
    intro k acc h
    rw [List.length_cons] at h
    rw [List.zipIdx_cons, List.foldl_cons]
    have hk : k < acc.length := by omega
    have hs : acc.toArray.setIfInBounds k c = (acc.set k c).toArray := by simp
    rw [hs, ih (k + 1) (acc.set k c) (by rw [List.length_set]; omega)]
    congr 1
    rw [List.take_add_one, List.getElem?_set_self (by simpa using hk), List.take_set_of_le (by omega)]
    simp
theorem fill_one (size : Nat) (zero : Array Value) (v : Value) (cs : List Value) (hz : zero.size = size) (hv : v.cells = cs.toArray) (hl : cs.length = size) : Instr.fill (fun i => some (i * size, size)) zero [(0, v)] = some cs.toArray := by
  have h1 : v.cells.size = size := by rw [hv]; simpa using hl
  simp only [Instr.fill, Nat.zero_mul, Nat.zero_add, h1, hz]
  simp only [ne_eq, not_true_eq_false, decide_false, gt_iff_lt, Nat.lt_irrefl, Bool.or_self, Bool.false_eq_true, if_false]
  rw [hv]
  have := foldl_put cs 0 zero.toList (by rw [Nat.zero_add, hl, ← hz]; simp)
  simp only [List.take_zero, List.nil_append, Array.toArray_toList] at this
  refine congrArg some (Eq.trans ?_ this)
  rw [← Array.foldl_toList]
  congr 1
  simp
/-- A slice of one, built, as one operation. -/
theorem wp_build1 {w : World} {o : Oper} {a : Act} {K : Act → World → Prop} {Q : Exit → Act → World → Prop} {T E : TypeId} {z : Value} {size bytes : Nat} (hT : Try.prog.underlying T = some (.slice E)) (hinfo : (Try.prog.info? E).map (fun i => (i.zero, i.size, i.bytes)) = some (some z, size, bytes))
    (hsz : 0 < size) (hs64 : size ≤ 64) (x : Operand) (ho : o.op = .buildSlice T 1 #[(0, x)]) (v : Value) (cs : List Value) (hx : a.eval x = v) (hv : v.cells = cs.toArray) (hl : cs.length = size)
    (h : K (a.put o.dst (.slice (some ⟨w.heap.size, 0, none⟩) 1 1)) (w.alloc (.cells cs.toArray E))) : o.wp Try.prog a w K Q := by
  obtain ⟨i, hi, hz0, hz1, hz2⟩ := info_parts hinfo
  have hb : (2 : Nat) ^ 24 = 16777216 := by decide
  have hf := fill_one size ((Array.range (1 * i.size)).map (z.cells[· % z.cells.size]!)) v cs (by simp [hz1]) hv hl
  rw [← hz1] at hf
  refine wp_buildSlice T E 1 #[(0, x)] ho cs.toArray i z hT hi hz0 (by rw [hz1, hb]; omega) (by rw [hz1]; omega) ?_ h
  simpa [hx] using hf
end Go.Proofs.Ytjaoaikcmbfnmaa
