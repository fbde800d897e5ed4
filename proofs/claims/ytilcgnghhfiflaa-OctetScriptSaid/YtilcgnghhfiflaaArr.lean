/- Arrays of bytes, compared. -/
import Derived.Test.YtilcgnghhfiflaaMem
import Derived.ChangeKeysEq
namespace Go.Proofs.Ytilcgnghhfiflaa
open Go.RowKit

theorem cellsOf5 : Try.prog.cellsOf 5 = 1 := by kernel_rfl

theorem part8 (l : List UInt8) (i : Nat) (h : i < l.length) (w : World) : (part 5 (cs8 l).toArray (i * 1)).run Try.prog w = .ok (B8 l[i]) w := by
  have hx : (cs8 l).toArray[i * 1]? = some (B8 l[i]) := by simp [cs8, h]
  unfold part
  simp only [Sem.run_bind, Try.isAgg5, Result.andThen_ok, hx]
  simp

theorem items8 (d : Nat) (a b : List UInt8) (hab : a.length = b.length) (w : World) : ∀ (is : List Nat), (∀ i ∈ is, i < a.length) →
    (Op.eqItems (d + 1) 5 1 (cs8 a).toArray (cs8 b).toArray is).run Try.prog w = .ok (is.all fun i => a[i]? == b[i]?) w
  | [], _ => by simp [Op.eqItems]
  | i :: is, h => by
    have hi := h i (by simp)
    have hi' : i < b.length := by omega
    have ih := items8 d a b hab w is (fun j hj => h j (by simp [hj]))
    simp only [Op.eqItems, Sem.run_bind, part8 a i hi w, part8 b i hi' w, Result.andThen_ok, B8, run_equalIn_int w d 5 .u8 .u8 _ _ Try.underlying5]
    rw [List.all_cons, List.getElem?_eq_getElem hi, List.getElem?_eq_getElem hi']
    by_cases he : a[i] = b[i]
    · rw [he]
      simp [ih]
    · have hne : (((a[i]).toNat : Int) == ((b[i]).toNat : Int)) = false := by
        rw [beq_eq_false_iff_ne]
        intro hc
        exact he (UInt8.toNat_inj.1 (by omega))
      simp [hne, he]

theorem arr8 (d : Nat) (t : TypeId) (n : Nat) (hu : Try.prog.underlying t = some (.array n 5)) (a b : List UInt8) (ha : a.length = n) (hb : b.length = n) (w : World) :
    (Op.equalIn (d + 2) t (.agg (cs8 a).toArray) (.agg (cs8 b).toArray)).run Try.prog w = .ok (decide (a = b)) w := by
  obtain ⟨i, hi, _, _, _⟩ := info_parts info_u8
  rw [run_equalIn_array (w := w) (d + 1) _ _ hu hi, cellsOf5, items8 d a b (by omega) w _ (fun i h => by simpa [ha] using h)]
  congr 1
  rw [Bool.eq_iff_iff, decide_eq_true_iff, List.all_eq_true]
  constructor
  · intro h
    apply List.ext_getElem?
    intro i
    by_cases hlt : i < n
    · simpa using h i (by simpa using hlt)
    · rw [List.getElem?_eq_none (by omega), List.getElem?_eq_none (by omega)]
  · intro h i _
    rw [h]
    simp

/-- A digest against the zero digest. -/
theorem arr_zero (a : List UInt8) (ha : a.length = 32) (w : World) :
    (Op.equalIn 10000 33 (.agg (cs8 a).toArray) (.agg #[Value.int IntKind.u8 0, Value.int IntKind.u8 0, Value.int IntKind.u8 0, Value.int IntKind.u8 0, Value.int IntKind.u8 0, Value.int IntKind.u8 0, Value.int IntKind.u8 0, Value.int IntKind.u8 0, Value.int IntKind.u8 0, Value.int IntKind.u8 0, Value.int IntKind.u8 0, Value.int IntKind.u8 0, Value.int IntKind.u8 0, Value.int IntKind.u8 0, Value.int IntKind.u8 0, Value.int IntKind.u8 0, Value.int IntKind.u8 0, Value.int IntKind.u8 0, Value.int IntKind.u8 0, Value.int IntKind.u8 0, Value.int IntKind.u8 0, Value.int IntKind.u8 0, Value.int IntKind.u8 0, Value.int IntKind.u8 0, Value.int IntKind.u8 0, Value.int IntKind.u8 0, Value.int IntKind.u8 0, Value.int IntKind.u8 0, Value.int IntKind.u8 0, Value.int IntKind.u8 0, Value.int IntKind.u8 0, Value.int IntKind.u8 0])).run Try.prog w = .ok (decide (a = List.replicate 32 0)) w :=
  arr8 9998 33 32 Try.underlying33 a (List.replicate 32 0) ha (by simp) w

/-- A whole array read out of its variable, the operation guarded or not. -/
theorem wpList_load_rowG {P : Program} {ops : Array Oper} {rest : List Oper} {o : Oper} {a : Act} {w : World} {Q : Exit → Act → World → Prop} (hgd : Region.wanted o (yielded ops a.tmps) = true) (ty : TypeId) (x : Operand) (ho : o.op = .load ty x)
    (g : Nat) (hx : a.eval x = .pointer (some ⟨g, 0, none⟩)) (t : TypeId) (cs : Array Value) (fr : Nat × Nat) (d : TypeDesc) (hg : w.heap[g]? = some (.cells cs t fr))
    (hu : P.underlying ty = some d) (hd : (match d with | .struct _ | .array _ _ => true | _ => false) = true) (hi : (P.info? ty).map (·.size) = some cs.size)
    (h : wpList P ops Q rest (a.put o.dst (.agg cs)) w) : wpList P ops Q (o :: rest) a w :=
  wpList_step fun _ hK => by rw [if_pos hgd]; exact wp_load_row ty x ho g hx t cs fr d hg hu hd hi (hK _ _ h)
theorem setRow_new (w : World) (Z cs : Array Value) (t : TypeId) : (w.alloc (.cells Z t)).setRow w.heap.size cs = w.alloc (.cells cs t) := by
  have h : ((w.heap.push (.cells Z t)).modify w.heap.size fun o => match o with | .cells _ t fr => .cells cs t fr | o => o) = w.heap.push (.cells cs t) := by
    apply Array.ext
    · simp
    · intro i h1 h2
      rw [Array.getElem_modify]
      by_cases hi : w.heap.size = i
      · subst hi; simp
      · rw [if_neg hi]
        simp only [Array.size_modify, Array.size_push] at h1
        rw [Array.getElem_push_lt (by omega), Array.getElem_push_lt (by omega)]
  exact congrArg (fun h => ({ w with heap := h } : World)) h
end Go.Proofs.Ytilcgnghhfiflaa
