/- The document's own disk in memory: its object, its bytes, its row of cached sectors. -/
import Derived.Test.YtphifbhgocjhcaaFj
import Derived.Test.YtphifbhgocjhcaaFi
import Derived.Test.YtphifbhgocjhcaaFg
import Derived.Test.YtphifbhgocjhcaaFf
namespace Go.Proofs.Ytphifbhgocjhcaa
set_option linter.unusedSimpArgs false
set_option linter.unusedVariables false
open Go.RowKit Go.Maps

/-- What a cell of the row of cached sectors holds: nil, or a slice that reads so, in a block from lo on that is none of these. -/
def Cv (w : World) (lo p b q : Nat) (v : Value) : Option (List UInt8) → Prop
  | none => v = .slice none 0 0
  | some x => x.length = 256 ∧ ∃ ad c, v = .slice (some ad) 256 c ∧ 256 ≤ c ∧ lo ≤ ad.block ∧ ad.block < w.heap.size ∧ ad.block ≠ p ∧ ad.block ≠ b ∧ ad.block ≠ q ∧ ∀ j u, x[j]? = some u → w.cell? (ad.add j) = some (B8 u)
/-- THE OBJECT AT p IS A DISK OF THE DOCUMENT's: its bytes in block b, its row in block q; all lies from block lo on. -/
structure Rk (w : World) (lo p b q : Nat) (B : List UInt8) (C : Ca) : Prop where
  hp : w.heap[p]? = some (.cells #[.slice (some ⟨b, 0, none⟩) B.length B.length, .slice (some ⟨q, 0, none⟩) C.length C.length] 52 (0, 0))
  hb : Row w b B
  hq : ∃ V : List Value, w.heap[q]? = some (.cells V.toArray 27 (0, 0)) ∧ V.length = C.length ∧ ∀ (i : Nat) (v : Value) (o : Option (List UInt8)), V[i]? = some v → C[i]? = some o → Cv w lo p b q v o
  hB : B.length = 256 * C.length
  h0 : 0 < C.length
  h1 : C.length ≤ 16384
  pb : p ≠ b
  pq : p ≠ q
  bq : b ≠ q
  lp : lo ≤ p
  lb : lo ≤ b
  lq : lo ≤ q
section
variable {w w' : World} {lo p b q : Nat} {B x : List UInt8} {C : Ca} {i : Nat} {v : Value} {o : Option (List UInt8)}
theorem Cv.keep (h : Cv w lo p b q v o) (hs : w.heap.size ≤ w'.heap.size) (hk : ∀ k, k < w.heap.size → lo ≤ k → k ≠ p → k ≠ b → k ≠ q → w'.heap[k]? = w.heap[k]?) : Cv w' lo p b q v o := by
  cases o with
  | none => exact h
  | some x =>
    obtain ⟨hl, ad, c, e, hc, h1, h2, h3, h4, h5, h6⟩ := h
    refine ⟨hl, ad, c, e, hc, h1, by omega, h3, h4, h5, fun j u hu => ?_⟩
    exact (World.cell?_of_block (by rw [add_block]; exact hk _ h2 h1 h3 h4 h5)).trans (h6 j u hu)
theorem Rk.plt (h : Rk w lo p b q B C) : p < w.heap.size := (Array.getElem?_eq_some_iff.1 h.hp).1
theorem Rk.blt (h : Rk w lo p b q B C) : b < w.heap.size := h.hb.lt
theorem Rk.qlt (h : Rk w lo p b q B C) : q < w.heap.size := by
  obtain ⟨V, h, _⟩ := h.hq
  exact (Array.getElem?_eq_some_iff.1 h).1
theorem Rk.kp {may : Nat → Prop} (h : Rk w lo p b q B C) (hk : Kp may w w') (hm : ∀ k, may k → k < lo) : Rk w' lo p b q B C := by
  have hn : ∀ k, lo ≤ k → ¬ may k := fun k h e => by have := hm k e; omega
  refine ⟨(hk.block p h.plt (hn p h.lp)).trans h.hp, h.hb.of (hk.block b h.blt (hn b h.lb)), ?_, h.hB, h.h0, h.h1, h.pb, h.pq, h.bq, h.lp, h.lb, h.lq⟩
  obtain ⟨V, h1, h2, h3⟩ := h.hq
  exact ⟨V, (hk.block q h.qlt (hn q h.lq)).trans h1, h2, fun i v o hv ho => (h3 i v o hv ho).keep hk.size (fun k hk1 hk2 _ _ _ => hk.block k hk1 (hn k hk2))⟩
theorem Rk.old (h : Rk w lo p b q B C) (hb : Below w.heap.size w w') : Rk w' lo p b q B C := h.kp (Kp.of_old (may := fun _ => False) hb) (fun _ e => e.elim)
theorem Rk.drew (h : Rk w lo p b q B C) : Rk w.drew lo p b q B C := h.old ⟨rfl, rfl, rfl, Nat.le_refl _, fun _ _ => rfl⟩
theorem Rk.c (h : Rk w lo p b q B C) : w.cell? ⟨p, 0, none⟩ = some (.slice (some ⟨b, 0, none⟩) B.length B.length) ∧ w.cell? ⟨p, 1, none⟩ = some (.slice (some ⟨q, 0, none⟩) C.length C.length) :=
  ⟨by rw [cell_of_row w p 0 _ 52 (0, 0) h.hp]; rfl, by rw [cell_of_row w p 1 _ 52 (0, 0) h.hp]; rfl⟩
theorem Rk.at_ (h : Rk w lo p b q B C) (hi : i < C.length) : ∃ v, w.cell? ⟨q, i, none⟩ = some v ∧ Cv w lo p b q v (C.getD i none) := by
  obtain ⟨V, h1, h2, h3⟩ := h.hq
  have hv : V[i]? = some V[i] := List.getElem?_eq_getElem (by omega)
  refine ⟨V[i], by rw [cell_of_row w q i _ 27 (0, 0) h1]; simp, h3 i _ _ hv ?_⟩
  rw [List.getD_eq_getElem?_getD, List.getElem?_eq_getElem hi]
  rfl
theorem Rk.qfroz (h : Rk w lo p b q B C) (j : Nat) : w.frozen? ⟨q, j, none⟩ = false := by
  obtain ⟨V, h1, _⟩ := h.hq
  simp [World.frozen?, h1]
theorem Rk.hC (h : Rk w lo p b q B C) : ∀ x, some x ∈ C → x.length = 256 := by
  intro x hx
  obtain ⟨i, hi⟩ := List.getElem?_of_mem hx
  obtain ⟨V, h1, h2, h3⟩ := h.hq
  have hlt := (List.getElem?_eq_some_iff.1 hi).1
  exact (h3 i V[i] (some x) (List.getElem?_eq_getElem (by omega)) hi).1
/-- A cell of the row is written. -/
theorem Rk.setC (h : Rk w lo p b q B C) (hi : i < C.length) (hv : Cv w lo p b q v o) : Rk (w.setCell ⟨q, i, none⟩ v) lo p b q B (C.set i o) ∧ Kp (· = q) w (w.setCell ⟨q, i, none⟩ v) := by
  have hk : ∀ k, k ≠ q → (w.setCell ⟨q, i, none⟩ v).heap[k]? = w.heap[k]? := fun k hk => Below.heap_setCell w _ v k (fun e => hk (by subst e; rfl))
  have hs : (w.setCell ⟨q, i, none⟩ v).heap.size = w.heap.size := by simp [World.setCell]
  refine ⟨⟨by rw [hk p h.pq, List.length_set]; exact h.hp, h.hb.of (hk b h.bq), ?_, by rw [List.length_set]; exact h.hB, by rw [List.length_set]; exact h.h0, by rw [List.length_set]; exact h.h1, h.pb, h.pq, h.bq, h.lp, h.lb, h.lq⟩,
    ⟨rfl, rfl, rfl, by rw [hs]; exact Nat.le_refl _, fun k _ hn => hk k hn⟩⟩
  obtain ⟨V, h1, h2, h3⟩ := h.hq
  refine ⟨V.set i v, ?_, by rw [List.length_set, List.length_set, h2], fun j u o' hu ho => ?_⟩
  · simp only [World.setCell, Array.getElem?_modify, if_pos trivial, if_true, h1, Option.map_some]
    simp
  · have keep : ∀ {u o'}, Cv w lo p b q u o' → Cv (w.setCell ⟨q, i, none⟩ v) lo p b q u o' := fun hc => hc.keep (by rw [hs]; exact Nat.le_refl _) (fun k _ _ _ _ hq => hk k hq)
    by_cases e : j = i
    · subst e
      rw [List.getElem?_set_self (by omega)] at hu
      rw [List.getElem?_set_self hi] at ho
      injection hu with hu
      injection ho with ho
      subst hu ho
      exact keep hv
    · rw [List.getElem?_set_ne (Ne.symm e)] at hu ho
      exact keep (h3 j u o' hu ho)
/-- A sector is put among the bytes. -/
theorem Rk.put (h : Rk w lo p b q B C) (hi : i < C.length) (hx : x.length = 256) : Rk (w.setCells b (256 * i) (cs8 x)) lo p b q (putS B i x) C ∧ Kp (· = b) w (w.setCells b (256 * i) (cs8 x)) := by
  have hbd : 256 * i + 256 ≤ B.length := by have := h.hB; omega
  have hl : (cs8 x).length = 256 := by rw [cs8_length, hx]
  obtain ⟨h1, h2, h3, h4, h5, h6⟩ := heap_setCells (s := b) (cs8 x) (256 * i) w (cs8 B) 5 h.hb (by rw [hl, cs8_length]; omega)
  have e : (cs8 B).take (256 * i) ++ cs8 x ++ (cs8 B).drop (256 * i + (cs8 x).length) = cs8 (putS B i x) := by
    rw [hl]
    simp [putS, cs8, List.map_take, List.map_drop]
  rw [e] at h1
  have hkp : Kp (· = b) w (w.setCells b (256 * i) (cs8 x)) := ⟨h4, h5, h6, Nat.le_of_eq h3.symm, fun k _ hk => h2 k hk⟩
  refine ⟨⟨by rw [h2 p h.pb, putS_len hx hbd]; exact h.hp, h1, ?_, by rw [putS_len hx hbd]; exact h.hB, h.h0, h.h1, h.pb, h.pq, h.bq, h.lp, h.lb, h.lq⟩, hkp⟩
  obtain ⟨V, g1, g2, g3⟩ := h.hq
  exact ⟨V, by rw [h2 q h.bq.symm]; exact g1, g2, fun j u o hu ho => (g3 j u o hu ho).keep (Nat.le_of_eq h3.symm) (fun k _ _ _ hb _ => h2 k hb)⟩
end

/-- The numbers of those cached up to i. -/
theorem idx_take : ∀ (C : Ca) (k i : Nat) (o : Option (List UInt8)), C[i]? = some o → idx k (C.take (i + 1)) = idx k (C.take i) ++ (if o.isSome then [k + i] else [])
  | [], _, _, _, h => by simp at h
  | y :: r, k, 0, o, h => by
    simp at h
    subst h
    cases y <;> simp [idx]
  | y :: r, k, i + 1, o, h => by
    have ih := idx_take r (k + 1) i o (by simpa using h)
    rw [show k + 1 + i = k + (i + 1) by omega] at ih
    cases y
    · simpa [idx] using ih
    · simpa [idx] using ih
theorem chosen_snoc : ∀ (l : List Nat) (k : List Bool) (x : Nat), chosen (l ++ [x]) k = chosen l k ++ (if k.getD l.length false then [x] else [])
  | [], [], x => by simp [chosen]
  | [], y :: k, x => by cases y <;> cases k <;> simp [chosen]
  | z :: l, [], x => by simp [chosen]
  | z :: l, y :: k, x => by
    have := chosen_snoc l k x
    cases y <;> simp [chosen, this]
/-- Those that are put: all, or those whose keep is true. -/
def sel (all : Bool) (l : List Nat) (k : List Bool) : List Nat := if all then l else chosen l k
theorem sel_snoc (all : Bool) (l : List Nat) (k : List Bool) (x : Nat) : sel all (l ++ [x]) k = sel all l k ++ (if all || k.getD l.length false then [x] else []) := by
  unfold sel
  cases all
  · simpa using chosen_snoc l k x
  · simp
theorem sel_sub (all : Bool) (l : List Nat) (k : List Bool) : ∀ j ∈ sel all l k, j ∈ l := by
  intro j h
  unfold sel at h
  cases all
  · exact chosen_sub l k j h
  · exact h
/-- What is left cached behind i steps. -/
def left (C : Ca) (i : Nat) : Ca := noC i ++ C.drop i
theorem left_len (C : Ca) (i : Nat) (h : i ≤ C.length) : (left C i).length = C.length := by simp [left, noC]; omega
theorem left_zero (C : Ca) : left C 0 = C := by simp [left, noC]
theorem left_end (C : Ca) : left C C.length = noC C.length := by simp [left]
theorem left_get (C : Ca) (i : Nat) : (left C i).getD i none = C.getD i none := by
  simp [left, noC, List.getD_eq_getElem?_getD, List.getElem?_append, List.getElem?_drop]
theorem left_set (C : Ca) (i : Nat) (h : i < C.length) : (left C i).set i none = left C (i + 1) := by
  apply List.ext_getElem?
  intro j
  by_cases e : j = i
  · subst e
    rw [List.getElem?_set_self (by rw [left_len C j (by omega)]; exact h)]
    simp [left, noC, List.getElem?_append, List.getElem?_replicate]
  · rw [List.getElem?_set_ne (Ne.symm e)]
    simp only [left, noC, List.getElem?_append, List.length_replicate, List.getElem?_replicate, List.getElem?_drop]
    by_cases h1 : j < i
    · rw [if_pos h1, if_pos h1, if_pos (show j < i + 1 by omega), if_pos (show j < i + 1 by omega)]
    · rw [if_neg h1, if_neg (show ¬ j < i + 1 by omega)]
      congr 1
      omega
theorem left_none (C : Ca) (i : Nat) (h : i < C.length) (hn : C.getD i none = none) : left C (i + 1) = left C i := by
  rw [← left_set C i h]
  apply List.ext_getElem?
  intro j
  by_cases e : j = i
  · subst e
    rw [List.getElem?_set_self (by rw [left_len C j (by omega)]; exact h)]
    have := left_get C j
    rw [hn, List.getD_eq_getElem?_getD, List.getElem?_eq_getElem (by rw [left_len C j (by omega)]; exact h)] at this
    rw [List.getElem?_eq_getElem (by rw [left_len C j (by omega)]; exact h)]
    simpa using this.symm
  · rw [List.getElem?_set_ne (Ne.symm e)]
end Go.Proofs.Ytphifbhgocjhcaa
