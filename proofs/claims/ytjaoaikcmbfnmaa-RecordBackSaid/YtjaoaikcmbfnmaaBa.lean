/- RecordBack: four rows of the function's own that grow side by side: bytes, records, ends, chains. -/
import Derived.Test.YtjaoaikcmbfnmaaPt
namespace Go.Proofs.Ytjaoaikcmbfnmaa
set_option maxRecDepth 100000
set_option linter.unusedSimpArgs false
set_option linter.unusedVariables false
open Go.RowKit

/-- Two rows' blocks are two. -/
def Dj (v v' : Value) : Prop := ∀ k, v.ownBlock = some k → v'.ownBlock ≠ some k
theorem Dj.symm {v v' : Value} (h : Dj v v') : Dj v' v := fun k h1 h2 => h k h2 h1
/-- A row that has grown is none of the others still. -/
theorem Dj.grow {v v' u : Value} {n : Nat} (h : Dj v u) (hv : v'.ownBlock = v.ownBlock ∨ v'.ownBlock = some n) (hu : ∀ k, u.ownBlock = some k → k < n) : Dj v' u := fun k h1 h2 => by
  rcases hv with e | e
  · rw [e] at h1; exact h k h1 h2
  · rw [e] at h1; injection h1 with h1; have := hu k h2; omega
theorem Dj.kept {w w' : World} {base : Nat} {e : TypeId} {size n : Nat} {v u : Value} {xs : List Value} (h : Dj v u) (ho : w.ownsRow base e size u n xs) (hg : w.grownBy w' v.ownBlock) : w'.ownsRow base e size u n xs := by
  refine World.ownsRow.kept ho hg ?_
  rcases hu : u.ownBlock with _ | k
  · exact .inl rfl
  · exact .inr fun e => h k e.symm hu

structure B4 (w wr : World) (B : Nat) (C : List UInt8) (v7 : Value) (l7 : List UInt8) (v8 : Value) (m8 : Nat) (x8 : List Value) (v9 : Value) (m9 : Nat) (x9 : List Value) (v10 : Value) (m10 : Nat) (x10 : List Value) : Prop where
  bel : Below w.heap.size w wr
  c4 : Bk wr w.heap.size (cs8 C)
  lt : w.heap.size < B
  le : B ≤ wr.heap.size
  b : Ow wr B v7 l7
  g : wr.ownsRow B 31 2 v8 m8 x8
  e : wr.ownsRow B 3 1 v9 m9 x9
  c : wr.ownsRow B 23 32 v10 m10 x10
  d78 : Dj v7 v8
  d79 : Dj v7 v9
  d7a : Dj v7 v10
  d89 : Dj v8 v9
  d8a : Dj v8 v10
  d9a : Dj v9 v10
section
variable {w wr wr' : World} {B : Nat} {C l7 l7' : List UInt8} {v7 v8 v9 v10 v' : Value} {m8 m9 m10 m' : Nat} {x8 x9 x10 x' : List Value}
theorem row_below {base : Nat} {e : TypeId} {size n : Nat} {v : Value} {xs : List Value} {w w' : World} (h : w.ownsRow base e size v n xs) (hb : Below w.heap.size w w') : w'.ownsRow base e size v n xs := by
  refine World.ownsRow.kept (row := none) h ⟨hb.os, hb.tape, hb.output, hb.size, fun k hk _ => hb.block k hk⟩ ?_
  rcases v.ownBlock with _ | k
  · exact .inl rfl
  · exact .inr (fun e => by cases e)
theorem B4.keep (h : B4 w wr B C v7 l7 v8 m8 x8 v9 m9 x9 v10 m10 x10) (hb : Below wr.heap.size wr wr') : B4 w wr' B C v7 l7 v8 m8 x8 v9 m9 x9 v10 m10 x10 :=
  ⟨bl_call h.bel hb, h.c4.keep hb, h.lt, Nat.le_trans h.le hb.size, row_below h.b hb, row_below h.g hb, row_below h.e hb, row_below h.c hb, h.d78, h.d79, h.d7a, h.d89, h.d8a, h.d9a⟩
theorem low_grown {base : Nat} {e : TypeId} {size n : Nat} {v : Value} {xs : List Value} (hbel : Below w.heap.size w wr) (hc : Bk wr w.heap.size (cs8 C)) (hlt : w.heap.size < base) (ho : wr.ownsRow base e size v n xs) (hg : wr.grownBy wr' v.ownBlock) :
    Below w.heap.size w wr' ∧ Bk wr' w.heap.size (cs8 C) := by
  have hne : ∀ k, k < base → v.ownBlock ≠ some k := fun k hk e => by have := (World.ownsRow.lt ho k e).1; omega
  exact ⟨hbel.trans ⟨hg.os, hg.tape, hg.output, hg.size, fun i hi => hg.block i (by have := hbel.size; omega) (fun e => hne i (by omega) e.symm)⟩, hc.grow hg (hne _ hlt)⟩
theorem B4.app7 (h : B4 w wr B C v7 l7 v8 m8 x8 v9 m9 x9 v10 m10 x10) (ho : Ow wr' B v' l7') (hg : wr.grownBy wr' v7.ownBlock) (hv : v'.ownBlock = v7.ownBlock ∨ v'.ownBlock = some wr.heap.size) : B4 w wr' B C v' l7' v8 m8 x8 v9 m9 x9 v10 m10 x10 := by
  obtain ⟨h1, h2⟩ := low_grown h.bel h.c4 h.lt h.b hg
  exact ⟨h1, h2, h.lt, Nat.le_trans h.le hg.size, ho, h.d78.kept h.g hg, h.d79.kept h.e hg, h.d7a.kept h.c hg, h.d78.grow hv (fun k e => (World.ownsRow.lt h.g k e).2), h.d79.grow hv (fun k e => (World.ownsRow.lt h.e k e).2), h.d7a.grow hv (fun k e => (World.ownsRow.lt h.c k e).2), h.d89, h.d8a, h.d9a⟩
theorem B4.app8 (h : B4 w wr B C v7 l7 v8 m8 x8 v9 m9 x9 v10 m10 x10) (ho : wr'.ownsRow B 31 2 v' m' x') (hg : wr.grownBy wr' v8.ownBlock) (hv : v'.ownBlock = v8.ownBlock ∨ v'.ownBlock = some wr.heap.size) : B4 w wr' B C v7 l7 v' m' x' v9 m9 x9 v10 m10 x10 := by
  obtain ⟨h1, h2⟩ := low_grown h.bel h.c4 h.lt h.g hg
  exact ⟨h1, h2, h.lt, Nat.le_trans h.le hg.size, h.d78.symm.kept h.b hg, ho, h.d89.kept h.e hg, h.d8a.kept h.c hg, (h.d78.symm.grow hv (fun k e => (World.ownsRow.lt h.b k e).2)).symm, h.d79, h.d7a, h.d89.grow hv (fun k e => (World.ownsRow.lt h.e k e).2), h.d8a.grow hv (fun k e => (World.ownsRow.lt h.c k e).2), h.d9a⟩
theorem B4.app9 (h : B4 w wr B C v7 l7 v8 m8 x8 v9 m9 x9 v10 m10 x10) (ho : wr'.ownsRow B 3 1 v' m' x') (hg : wr.grownBy wr' v9.ownBlock) (hv : v'.ownBlock = v9.ownBlock ∨ v'.ownBlock = some wr.heap.size) : B4 w wr' B C v7 l7 v8 m8 x8 v' m' x' v10 m10 x10 := by
  obtain ⟨h1, h2⟩ := low_grown h.bel h.c4 h.lt h.e hg
  exact ⟨h1, h2, h.lt, Nat.le_trans h.le hg.size, h.d79.symm.kept h.b hg, h.d89.symm.kept h.g hg, ho, h.d9a.kept h.c hg, h.d78, (h.d79.symm.grow hv (fun k e => (World.ownsRow.lt h.b k e).2)).symm, h.d7a, (h.d89.symm.grow hv (fun k e => (World.ownsRow.lt h.g k e).2)).symm, h.d8a, h.d9a.grow hv (fun k e => (World.ownsRow.lt h.c k e).2)⟩
theorem B4.app10 (h : B4 w wr B C v7 l7 v8 m8 x8 v9 m9 x9 v10 m10 x10) (ho : wr'.ownsRow B 23 32 v' m' x') (hg : wr.grownBy wr' v10.ownBlock) (hv : v'.ownBlock = v10.ownBlock ∨ v'.ownBlock = some wr.heap.size) : B4 w wr' B C v7 l7 v8 m8 x8 v9 m9 x9 v' m' x' := by
  obtain ⟨h1, h2⟩ := low_grown h.bel h.c4 h.lt h.c hg
  exact ⟨h1, h2, h.lt, Nat.le_trans h.le hg.size, h.d7a.symm.kept h.b hg, h.d8a.symm.kept h.g hg, h.d9a.symm.kept h.e hg, ho, h.d78, h.d79, (h.d7a.symm.grow hv (fun k e => (World.ownsRow.lt h.b k e).2)).symm, h.d89, (h.d8a.symm.grow hv (fun k e => (World.ownsRow.lt h.g k e).2)).symm, (h.d9a.symm.grow hv (fun k e => (World.ownsRow.lt h.e k e).2)).symm⟩
end

theorem info_int : (Try.prog.info? 3).map (fun i => (i.zero, i.size, i.bytes)) = some (some (.int .i64 0), 1, 8) := by kernel_rfl
theorem info_dig : (Try.prog.info? 23).map (fun i => (i.zero, i.size, i.bytes)) = some (some (.agg z36.toArray), 32, 32) := by kernel_rfl
/-- append of one, as one operation, onto a row of the call's own. -/
theorem wp_app_row {w : World} {o : Oper} {a : Act} {K : Act → World → Prop} {Q : Exit → Act → World → Prop} {T E : TypeId} {z : Value} {size bytes : Nat} (hT : Try.prog.underlying T = some (.slice E)) (hinfo : (Try.prog.info? E).map (fun i => (i.zero, i.size, i.bytes)) = some (some z, size, bytes))
    (hzs : z.cells.size = size) (hsz : 0 < size) (hby : bytes ≤ 64) (s x : Operand) (ho : o.op = .call { callee := .builtin .append, args := #[s, x], argTypes := #[T, T] })
    {base : Nat} {v : Value} {m : Nat} {xs : List Value} (hs : a.eval s = v) (hown : w.ownsRow base E size v m xs) {g : Nat} {news : List Value} (hx : a.eval x = .slice (some ⟨g, 0, none⟩) 1 1) (hb : Bk w g news) (hl : news.length = size) (h1 : ∀ u ∈ news, u.oneCell' = true)
    (hm : m ≤ 1073741824) (hbase : base ≤ w.heap.size)
    (h : ∀ v' w', w'.ownsRow base E size v' (m + 1) (xs ++ news) → w.grownBy w' v.ownBlock → (v'.ownBlock = v.ownBlock ∨ v'.ownBlock = some w.heap.size) → K (a.put o.dst v') w') : o.wp Try.prog a w K Q := by
  obtain ⟨i, hi, hz0, hz1, hz2⟩ := info_parts hinfo
  have hbb : (m + 1) * bytes ≤ 140737488355328 := Nat.le_trans (Nat.mul_le_mul (show m + 1 ≤ 1073741825 by omega) hby) (by decide)
  obtain ⟨v', w', hrun, h2, h3, _, h5⟩ := run_append_own_at (P := Try.prog) w base T o.type E i z size bytes hT hi hz0 hz1 hz2 hzs hsz v m xs hown ⟨g, 0, none⟩ 1 1 news
    (by rw [hl]; omega) hb.at_ h1 (by simp only [maxLen]; omega) hbb hbase
  unfold Oper.wp execOp
  simp only [ho, resolve, invoke, builtin, Sem.run_bind, Sem.run_pure, Result.andThen_ok, List.map_toArray, List.map_cons, List.map_nil, hs, hx, hrun]
  exact h v' w' h2 h3 h5

/-- Where records end. -/
def endsOf (C : List UInt8) (rs : List (UInt8 × List UInt8)) : List Value := (List.range (rs.length + 1)).map fun j => .int .i64 ((recsB C (rs.take j)).length : Int)
/-- The chains behind them. -/
def chainsOf (C : List UInt8) (rs : List (UInt8 × List UInt8)) : List Value := (List.range (rs.length + 1)).flatMap fun j => cs8 (endR C (rs.take j))
theorem endsOf_snoc (C : List UInt8) (rs : List (UInt8 × List UInt8)) (r : UInt8 × List UInt8) : endsOf C (rs ++ [r]) = endsOf C rs ++ [.int .i64 ((recsB C (rs ++ [r])).length : Int)] := by
  unfold endsOf
  rw [List.length_append, List.length_singleton, List.range_succ, List.map_append, List.map_singleton, List.take_of_length_le (by simp)]
  congr 1
  refine List.map_congr_left fun j hj => ?_
  rw [List.mem_range] at hj
  rw [List.take_append_of_le_length (by omega)]
theorem chainsOf_snoc (C : List UInt8) (rs : List (UInt8 × List UInt8)) (r : UInt8 × List UInt8) : chainsOf C (rs ++ [r]) = chainsOf C rs ++ cs8 (endR C (rs ++ [r])) := by
  unfold chainsOf
  rw [List.length_append, List.length_singleton, List.range_succ, List.flatMap_append, List.flatMap_singleton, List.take_of_length_le (by simp)]
  congr 1
  have : ∀ l : List Nat, (∀ j ∈ l, j < rs.length + 1) → l.flatMap (fun j => cs8 (endR C ((rs ++ [r]).take j))) = l.flatMap fun j => cs8 (endR C (rs.take j)) := by
    intro l
    induction l with
    | nil => intro _; rfl
    | cons j t ih =>
      intro hl
      rw [List.flatMap_cons, List.flatMap_cons, ih (fun k hk => hl k (List.mem_cons_of_mem _ hk)), List.take_append_of_le_length (by have := hl j List.mem_cons_self; omega)]
  exact this _ (fun j hj => List.mem_range.1 hj)
theorem endsOf_at (C : List UInt8) (rs : List (UInt8 × List UInt8)) (j : Nat) (h : j ≤ rs.length) : (endsOf C rs)[j]? = some (.int .i64 ((recsB C (rs.take j)).length : Int)) := by
  rw [endsOf, List.getElem?_map, List.getElem?_range (by omega)]
  rfl
theorem flat_at (f : Nat → List Value) (hf : ∀ j, (f j).length = 32) : ∀ (n j : Nat), j < n → ∀ (k : Nat) v, (f j)[k]? = some v → ((List.range n).flatMap f)[j * 32 + k]? = some v
  | 0, j, h, _, _, _ => absurd h (by omega)
  | n + 1, j, h, k, v, hv => by
    have hl : ∀ m : Nat, ((List.range m).flatMap f).length = m * 32 := by
      intro m
      induction m with
      | zero => rfl
      | succ m ih => rw [List.range_succ, List.flatMap_append, List.length_append, ih, List.flatMap_singleton, hf]; omega
    have hk : k < 32 := by have := (List.getElem?_eq_some_iff.1 hv).1; rw [hf] at this; exact this
    rw [List.range_succ, List.flatMap_append, List.flatMap_singleton]
    by_cases hj : j < n
    · rw [List.getElem?_append_left (by rw [hl]; omega)]
      exact flat_at f hf n j hj k v hv
    · obtain rfl : j = n := by omega
      rw [List.getElem?_append_right (by rw [hl]; omega), hl, show j * 32 + k - j * 32 = k by omega]
      exact hv
theorem chainsOf_at (C : List UInt8) (hC : C.length = 32) (rs : List (UInt8 × List UInt8)) (j : Nat) (h : j ≤ rs.length) : ∀ (k : Nat) v, (cs8 (endR C (rs.take j)))[k]? = some v → (chainsOf C rs)[j * 32 + k]? = some v :=
  flat_at (fun j => cs8 (endR C (rs.take j))) (fun j => by rw [cs8_length, endR_length C hC]) (rs.length + 1) j (by omega)
end Go.Proofs.Ytjaoaikcmbfnmaa
