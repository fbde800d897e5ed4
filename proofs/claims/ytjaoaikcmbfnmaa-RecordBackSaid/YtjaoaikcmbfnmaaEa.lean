/- Arrays of bytes, compared. -/
import Derived.Test.YtjaoaikcmbfnmaaRw
import Derived.ChangeKeysEq
import Derived.Laws.StructEq
namespace Go.Proofs.Ytjaoaikcmbfnmaa
open Go.RowKit

theorem cellsOf5 : Try.prog.cellsOf 5 = 1 := by kernel_rfl

theorem part8 (l : List UInt8) (i : Nat) (h : i < l.length) (w : World) : (part 5 (cs8 l).toArray (i * 1)).run Try.prog w = .ok (B8 l[i]) w := by
  have hx : (cs8 l).toArray[i * 1]? = some (B8 l[i]) := by simp [cs8, h]
  unfold part
  simp only [Sem.run_bind, Try.isAgg5, Result.andThen_ok, hx]
  simp

theorem items8 (d : Nat) (a b : List UInt8) (hab : a.length = b.length) (w : World) : ∀ (is : List Nat), (∀ i ∈ is, i < a.length) →
    (Op.eqItems (d + 1) 5 1 (cs8 a).toArray (cs8 b).toArray is).run Try.prog w = .ok (is.all fun i => a[i]? == b[i]?) w
  | [], _ => by simp [Op.eqItems]
  | i :: is, h => by
    have hi := h i (by simp)
    have hi' : i < b.length := by omega
    have ih := items8 d a b hab w is (fun j hj => h j (by simp [hj]))
    simp only [Op.eqItems, Sem.run_bind, part8 a i hi w, part8 b i hi' w, Result.andThen_ok, B8, run_equalIn_int w d 5 .u8 .u8 _ _ Try.underlying5]
    rw [List.all_cons, List.getElem?_eq_getElem hi, List.getElem?_eq_getElem hi']
    by_cases he : a[i] = b[i]
    · rw [he]
      simp [ih]
    · have hne : (((a[i]).toNat : Int) == ((b[i]).toNat : Int)) = false := by
        rw [beq_eq_false_iff_ne]
        intro hc
        exact he (UInt8.toNat_inj.1 (by omega))
      simp [hne, he]

theorem arr8 (d : Nat) (t : TypeId) (n : Nat) (hu : Try.prog.underlying t = some (.array n 5)) (a b : List UInt8) (ha : a.length = n) (hb : b.length = n) (w : World) :
    (Op.equalIn (d + 2) t (.agg (cs8 a).toArray) (.agg (cs8 b).toArray)).run Try.prog w = .ok (decide (a = b)) w := by
  obtain ⟨i, hi, _, _, _⟩ := info_parts info_u8
  rw [run_equalIn_array (w := w) (d + 1) _ _ hu hi, cellsOf5, items8 d a b (by omega) w _ (fun i h => by simpa [ha] using h)]
  congr 1
  rw [Bool.eq_iff_iff, decide_eq_true_iff, List.all_eq_true]
  constructor
  · intro h
    apply List.ext_getElem?
    intro i
    by_cases hlt : i < n
    · simpa using h i (by simpa using hlt)
    · rw [List.getElem?_eq_none (by omega), List.getElem?_eq_none (by omega)]
  · intro h i _
    rw [h]
    simp

theorem exec_nearr {o : Oper} {a : Act} {w : World} (t : TypeId) (n : Nat) (hu : Try.prog.underlying t = some (.array n 5)) (x y : Operand) (ho : o.op = .binOp .neq t x y t) (hm : Try.prog.eqGuardType Try.prog.depth t = false) {l : List UInt8} (hl : l.length = n) (hx : a.eval x = .agg (cs8 l).toArray) (hy : a.eval y = .agg (cs8 l).toArray) :
    (execOp a.eval o).run Try.prog w = .ok (.value (.bool false)) w := by
  have h := arr8 9998 t n hu l l hl hl w
  unfold execOp
  simp only [ho, hx, hy]
  have h2 : (Op.equalIn 10000 t (.agg (cs8 l).toArray) (.agg (cs8 l).toArray)).run Try.prog w = .ok (decide (l = l)) w := h
  simp [go_sem, run_eqGuard_agg (hm := hm), h2]
theorem arr_same {l : List UInt8} (h : l.length = 32) (W : World) : (Op.equalIn 10000 23 (.agg (cs8 l).toArray) (.agg (cs8 l).toArray)).run Try.prog W = .ok true W := by
  have := arr8 9998 23 32 Try.underlying23 l l h h W
  simpa using this
theorem arr_diff {l l2 : List UInt8} (h : l.length = 32) (h2 : l2.length = 32) (hne : l ≠ l2) (W : World) : (Op.equalIn 10000 23 (.agg (cs8 l).toArray) (.agg (cs8 l2).toArray)).run Try.prog W = .ok false W := by
  have := arr8 9998 23 32 Try.underlying23 l l2 h h2 W
  rwa [decide_eq_false hne] at this
/-- A whole row read out of its variable, the operation guarded or not. -/
theorem wpList_load_atG {P : Program} {ops : Array Oper} {rest : List Oper} {op : Oper} {a : Act} {w : World} {Q : Exit → Act → World → Prop} (hgd : Region.wanted op (yielded ops a.tmps) = true) (ty : TypeId) (x : Operand) (ho : op.op = .load ty x)
    (ad : Addr) (hx : a.eval x = .pointer (some ad)) (cs : List Value) (d : TypeDesc) (hc : ∀ j v, cs[j]? = some v → w.cell? (ad.add j) = some v)
    (hu : P.underlying ty = some d) (hd : d.isRow = true) (hi : (P.info? ty).map (·.size) = some cs.length)
    (h : wpList P ops Q rest (a.put op.dst (.agg cs.toArray)) w) : wpList P ops Q (op :: rest) a w :=
  wpList_step fun _ hK => by rw [if_pos hgd]; exact wp_load_at ty x ho ad hx cs d hc hu hd hi (hK _ _ h)
end Go.Proofs.Ytjaoaikcmbfnmaa
