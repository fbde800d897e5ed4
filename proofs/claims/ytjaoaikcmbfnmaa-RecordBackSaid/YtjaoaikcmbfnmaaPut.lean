/- Bytes put into a sum that is under way: put. -/
import Derived.Test.YtjaoaikcmbfnmaaStp
namespace Go.Proofs.Ytjaoaikcmbfnmaa
set_option maxRecDepth 8192
open Go.RowKit

/-- What is left behind whole pieces. -/
def left (l : List UInt8) : List UInt8 := l.drop (128 * (l.length / 128))
theorem eat_next (KA st : List UInt64) (l : List UInt8) (h : 128 ≤ l.length) (S : List UInt64) (hS : eat KA (l.length / 128) st l = S) : eat KA ((l.drop 128).length / 128) (mix KA st (l.take 128)) (l.drop 128) = S := by
  rw [← hS, show l.length / 128 = (l.drop 128).length / 128 + 1 from by rw [List.length_drop]; omega, eat]
theorem left_next (l : List UInt8) (h : 128 ≤ l.length) (S : List UInt8) (hS : left l = S) : left (l.drop 128) = S := by
  rw [← hS, left, left, List.drop_drop, List.length_drop]
  congr 1
  omega
theorem eat_small (KA st : List UInt64) (l : List UInt8) (h : l.length < 128) (S : List UInt64) (hS : eat KA (l.length / 128) st l = S) : S = st := by
  rw [← hS, Nat.div_eq_of_lt h, eat]
theorem left_small (l : List UInt8) (h : l.length < 128) (S : List UInt8) (hS : left l = S) : S = l := by
  rw [← hS, left, Nat.div_eq_of_lt h]
  rfl

/-- The blocks that a put may write. -/
def may (g : Nat) (v : Value) (k : Nat) : Prop := k = g ∨ v.ownBlock = some k
def lenOf : Value → Nat | .slice _ n _ => n | _ => 0

section
variable {w w' : World} {g base : Nat} {v : Value}
theorem Kp.mono {m m' : Nat → Prop} (h : Kp m w w') (hm : ∀ k, m k → m' k) : Kp m' w w' := ⟨h.os, h.tape, h.output, h.size, fun k hk hn => h.block k hk (fun e => hn (hm k e))⟩
theorem Kp.of_grown (h : w.grownBy w' v.ownBlock) : Kp (may g v) w w' := ⟨h.os, h.tape, h.output, h.size, fun k hk hn => h.block k hk (fun e => hn (Or.inr e.symm))⟩
theorem Kp.of_cell (k : Nat) (u : Value) : Kp (may g v) w (w.setCell ⟨g, k, none⟩ u) := ⟨rfl, rfl, rfl, by simp [World.setCell], fun j _ hn => heap_setCell_other w ⟨g, k, none⟩ j u (fun e => hn (Or.inl e))⟩
theorem Bk.grown {cs : List Value} (h : Bk w g cs) (hg : w.grownBy w' v.ownBlock) (hne : v.ownBlock ≠ some g) : Bk w' g cs := by
  have := h.lt
  obtain ⟨t, h⟩ := h
  exact ⟨t, (hg.block g this (fun e => hne e.symm)).trans h⟩
theorem Rd.kpNe {top n c : Nat} {A : Option Addr} {l : List UInt8} {m : Nat → Prop} (h : Rd w top A n c l) (hk : Kp m w w') (ht : top ≤ w.heap.size) (hm : ∀ ad, A = some ad → ¬ m ad.block) : Rd w' top A n c l :=
  ⟨h.1, h.2.1, fun hn => by
    obtain ⟨ad, e, hb, hc⟩ := h.2.2 hn
    exact ⟨ad, e, hb, fun j u hu => (hk.cell (by rw [add_block]; omega) (by rw [add_block]; exact hm ad e)).trans (hc j u hu)⟩⟩
theorem Kp.via {m m' : Nat → Prop} {w2 : World} (h : Kp m w w') (k : Kp m' w' w2) (hm : ∀ j, j < w.heap.size → m' j → m j) : Kp m w w2 :=
  ⟨k.os.trans h.os, k.tape.trans h.tape, k.output.trans h.output, Nat.le_trans h.size k.size, fun i hi hn => (k.block i (Nat.lt_of_lt_of_le hi h.size) (fun e => hn (hm i hi e))).trans (h.block i hi hn)⟩
theorem ne_drop {A : Option Addr} {c k : Nat} (h : ∀ ad, A = some ad → ad.block ≠ g) : ∀ ad, (if c = k then A else A.map (·.add k)) = some ad → ad.block ≠ g := by
  intro ad hd
  split at hd
  · exact h ad hd
  · cases A with
    | none => cases hd
    | some a =>
      simp only [Option.map_some, Option.some.injEq] at hd
      subst hd
      rw [add_block]
      exact h a rfl
end
theorem rn_nine (gk : Nat) (st : List UInt64) (v : Value) (h : st.length = 8) : (rn gk st v)[9]? = some v := by
  obtain ⟨a, b, c, d, e, f, g, i, rfl⟩ := eight h
  rfl
theorem rn_set9 (gk : Nat) (st : List UInt64) (v u : Value) (h : st.length = 8) : (rn gk st v).set 9 u = rn gk st u := by
  obtain ⟨a, b, c, d, e, f, g, i, rfl⟩ := eight h
  rfl
theorem wp_load_cell {o : Oper} {a : Act} {w : World} {K : Act → World → Prop} {Q : Exit → Act → World → Prop} (ty : TypeId) (x : Operand) (ho : o.op = .load ty x) (hag : ∀ w, (isAgg ty).run Try.prog w = .ok false w)
    {ad : Addr} (hx : a.eval x = .pointer (some ad)) {v : Value} (hc : w.cell? ad = some v) (h : K (a.put o.dst v) w) : o.wp Try.prog a w K Q := by
  unfold Oper.wp
  rw [exec_load_cell ty x ho hag hx hc]
  exact h
/-- A slice put into its cell. -/
theorem wp_store_any {o : Oper} {a : Act} {w : World} {K : Act → World → Prop} {Q : Exit → Act → World → Prop} (x y : Operand) (ho : o.op = .store 26 x y) {g k n c : Nat} {A : Option Addr} {cs : List Value}
    (hx : a.eval x = .pointer (some ⟨g, k, none⟩)) (hy : a.eval y = .slice A n c) (hB : Bk w g cs) (hk : k < cs.length) (h : K (a.put o.dst undef) (w.setCell ⟨g, k, none⟩ (.slice A n c))) : o.wp Try.prog a w K Q := by
  have hc := hB.cell (List.getElem?_eq_getElem hk)
  have hf := hB.frozen k
  unfold Oper.wp execOp
  simp only [ho, hx, hy]
  simp [Instr.storeAt, Instr.sureAddr, storeVar, storeCells, Try.sizeOf26, hc, hf, go_sem]
  exact h
theorem wp_app2 {w : World} {o : Oper} {a : Act} {K : Act → World → Prop} {Q : Exit → Act → World → Prop} (s x : Operand)
    (ho : o.op = .call { callee := .builtin .append, args := #[s, x], argTypes := #[26, 26] })
    {base : Nat} {v : Value} {xs : List UInt8} (hs : a.eval s = v) (hown : Ow w base v xs) {top n c : Nat} {A : Option Addr} {l : List UInt8} (hx : a.eval x = .slice A n c) (hr : Rd w top A n c l)
    (hb : xs.length + n ≤ 140737488355328) (hbase : base ≤ w.heap.size)
    (h : ∀ v' w', Ow w' base v' (xs ++ l) → w.grownBy w' v.ownBlock → (v'.ownBlock = v.ownBlock ∨ v'.ownBlock = some w.heap.size) → K (a.put o.dst v') w') : o.wp Try.prog a w K Q := by
  obtain ⟨v', w', hrun, h2, h3, h4⟩ := run_app hown hr hb hbase o.type
  unfold Oper.wp execOp
  simp only [ho, resolve, invoke, builtin, Sem.run_bind, Sem.run_pure, Result.andThen_ok, List.map_toArray, List.map_cons, List.map_nil, hs, hx, hrun]
  exact h v' w' h2 h3 h4

/-- The row of a sum under way is another one: behind an append, the slice stored. -/
theorem Run.stored {w w2 : World} {base g gk : Nat} {KA st : List UInt64} {part part2 : List UInt8} {v v2 : Value} (h : Run w base g gk KA st part v) (hg : w.grownBy w2 v.ownBlock)
    (ho : Ow w2 base v2 part2) (hv : v2.ownBlock = v.ownBlock ∨ v2.ownBlock = some w.heap.size) : Run (w2.setCell ⟨g, 9, none⟩ v2) base g gk KA st part2 v2 := by
  have hlt := h.bk.lt
  have hne : v2.ownBlock ≠ some g := by
    rcases hv with e | e <;> rw [e]
    · exact h.ne
    · intro k; injection k with k; omega
  have hb := (h.bk.grown hg h.ne).setCell 9 v2
  rw [rn_set9 gk st v v2 h.len] at hb
  refine ⟨hb, ?_, hne, h.hg, ?_, h.hgk, h.len, h.kl⟩
  · exact World.ownsRow.kept ho ⟨rfl, rfl, rfl, by simp [World.setCell], fun k _ hk => heap_setCell_other w2 ⟨g, 9, none⟩ k v2 (fun e => hk (by rw [e]))⟩ (Or.inr hne)
  · refine (h.kb.grown hg ?_).setCell_ne (by have := h.hgk; have := h.hg; omega) _ _
    intro e
    have := (World.ownsRow.lt h.row gk e).1
    have := h.hgk
    omega
theorem Ow.cut {w : World} {base n c : Nat} {ad : Addr} {xs : List UInt8} (h : Ow w base (.slice (some ad) n c) xs) : Ow w base (.slice (some ad) 0 c) [] := by
  refine ⟨rfl, ?_⟩
  rcases h.2 with ⟨h', _⟩ | ⟨g, cap, cur, hv, hb, hg, hn, hc, hs, _⟩
  · cases h'
  · injection hv with h1 h2 h3
    injection h1 with h1
    subst h1 h3
    exact .inr ⟨g, c, cur, rfl, hb, hg, Nat.zero_le _, hc, hs, rfl⟩

/-- A row is where it was, or it is new. -/
def Fresh (w : World) (v v' : Value) : Prop := v'.ownBlock = v.ownBlock ∨ ∃ k, v'.ownBlock = some k ∧ w.heap.size ≤ k
/-- The part of a slice up to place h. -/
theorem run_slice31_hi {A : Option Addr} {n c h : Nat} (hh : h ≤ c) (i : Int) (hi : i = h) (w : World) : (Instr.slice 26 (.slice A n c) none (some (.int .i64 i)) none).run Try.prog w = .ok (.slice A h c) w := by
  subst hi
  have h2 : (h : Int) ≤ (c : Int) := by omega
  simp [Instr.slice, run_underlying Try.underlying26, Instr.sliceBounds, run_sliceBound, h2, Try.sizeOf5, go_sem]
theorem exec_slice31_hi {o : Oper} {a : Act} {w : World} (x y : Operand) (ho : o.op = .slice 26 x none (some y) none) {A : Option Addr} {n c h : Nat} {i : Int} (hx : a.eval x = .slice A n c) (hy : a.eval y = .int .i64 i) (hh : h ≤ c) (hi : i = h) :
    (execOp a.eval o).run Try.prog w = .ok (.value (.slice A h c)) w := by
  unfold execOp
  simp only [ho, hx, hy, Option.map_some, Option.map_none, Instr.sliceAt, Sem.run_bind, run_underlying Try.underlying26, Result.andThen_ok, run_slice31_hi hh i hi, Sem.run_pure]
/-- What a put leaves. -/
def Put (w : World) (base g gk : Nat) (KA st : List UInt64) (part : List UInt8) (v : Value) (w' : World) : Prop :=
  ∃ v', Run w' base g gk KA st part v' ∧ Kp (may g v) w w' ∧ Fresh w v v'
theorem may_via {w : World} {g : Nat} {v va : Value} (h : Fresh w v va) : ∀ j, j < w.heap.size → may g va j → may g v j := by
  rintro j hj (e | e)
  · exact Or.inl e
  · rcases h with h | ⟨k, h, hk⟩
    · exact Or.inr (h ▸ e)
    · rw [h] at e; injection e with e; omega

end Go.Proofs.Ytjaoaikcmbfnmaa
