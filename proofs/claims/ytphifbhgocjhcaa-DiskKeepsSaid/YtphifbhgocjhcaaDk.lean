/- Words for a disk in memory: its object, the block of its sectors, the map of its cache. -/
import Derived.Test.YtphifbhgocjhcaaSp
import Derived.Test.YtphifbhgocjhcaaReg
import Derived.Deep.MidRow
import Derived.Maps.OwnSet
import Derived.MapFrom
namespace Go.Proofs.Ytphifbhgocjhcaa
set_option linter.unusedSimpArgs false
set_option linter.unusedVariables false
open Go.RowKit Go.Maps

/-- A sector as a value. -/
def sec (x : List UInt8) : Value := .agg (cs8 x).toArray
/-- How what is cached reads: as itself. -/
def secR (v : Value) : Option (DataW Value × List MemPlace) := some (.held v, [])

theorem zero63 : Value.agg Try.zeroCells63 = sec (List.replicate 256 0) := by kernel_rfl
theorem kint : Keyed Try.prog 3 := int_keyed Try.underlying3
theorem keyN {i : Nat} (h : i ≤ 16384) : keyOf Try.prog 3 (.int .i64 (i : Int)) = some (.int .i64 (i : Int)) :=
  keyOf_int_mk Try.underlying3 (WalkArith.wf_i64 (by omega))

/-- Block s holds the bytes B at its head. -/
def Bk (w : World) (s : Nat) (B : List UInt8) : Prop := ∃ rest t, w.heap[s]? = some (.cells (cs8 B ++ rest).toArray t (0, 0))

/-- THE OBJECT AT p IS A DISK: its sectors in block s, its cache in block m. -/
structure Dk (w : World) (p s m : Nat) (B : List UInt8) (C : Ca) : Prop where
  hp : ∃ cap, C.length ≤ cap ∧ cap ≤ 9223372036854775807 ∧ w.heap[p]? = some (.cells #[.slice (some ⟨s, 0, none⟩) C.length cap, .map (some m)] 61 (0, 0))
  hs : Bk w s B
  hm : ∃ k, w.ownsMap Try.prog 3 secR m k (dat sec C)
  hB : B.length = 256 * C.length
  hC : ∀ x, some x ∈ C → x.length = 256
  h0 : 0 < C.length
  h1 : C.length ≤ 16384
  ps : p ≠ s

section
variable {w w' : World} {p s m : Nat} {B x : List UInt8} {C : Ca} {i : Nat}

theorem Bk.lt (h : Bk w s B) : s < w.heap.size := by
  obtain ⟨_, _, h⟩ := h
  exact (Array.getElem?_eq_some_iff.1 h).1
theorem Bk.ne (h : Bk w s B) {k : Nat} {D : DataW Value} (hm : w.ownsMap Try.prog 3 secR m k D) : s ≠ m := by
  rintro rfl
  obtain ⟨_, _, h⟩ := h
  obtain ⟨es, ck, hb, _⟩ := hm
  rw [h] at hb
  cases hb
theorem Bk.cell (h : Bk w s B) {j : Nat} {b : UInt8} (hj : B[j]? = some b) : w.cell? ⟨s, j, none⟩ = some (B8 b) := by
  obtain ⟨rest, t, h⟩ := h
  rw [cell_of_row w s j _ t (0, 0) h]
  have hlt : j < B.length := (List.getElem?_eq_some_iff.1 hj).1
  simp only [List.getElem?_toArray]
  rw [List.getElem?_append_left (by simpa [cs8] using hlt)]
  simp [cs8, hj]
theorem Bk.range (h : Bk w s B) (hi : 256 * i + 256 ≤ B.length) : w.rangeAt s (256 * i) (cs8 (sect B i)) := by
  intro j v hv
  simp only [cs8, List.getElem?_map, Option.map_eq_some_iff, sect] at hv
  obtain ⟨b, hb, rfl⟩ := hv
  rw [List.getElem?_take] at hb
  split at hb
  · exact h.cell (by rw [← hb, List.getElem?_drop])
  · cases hb
theorem Bk.there (h : Bk w s B) (hi : 256 * i + 256 ≤ B.length) : w.there s (256 * i) 256 := by
  intro j hj
  obtain ⟨b, hb⟩ : ∃ b, B[256 * i + j]? = some b := ⟨_, List.getElem?_eq_getElem (by omega)⟩
  refine ⟨by rw [h.cell hb]; rfl, ?_⟩
  obtain ⟨rest, t, h⟩ := h
  simp [World.frozen?, h]
/-- Cells that are stored one behind the other. -/
theorem heap_setCells : ∀ (vs : List Value) (o : Nat) (w : World) (cs : List Value) (t : TypeId), w.heap[s]? = some (.cells cs.toArray t (0, 0)) → o + vs.length ≤ cs.length →
    (w.setCells s o vs).heap[s]? = some (.cells (cs.take o ++ vs ++ cs.drop (o + vs.length)).toArray t (0, 0)) ∧ (∀ k, k ≠ s → (w.setCells s o vs).heap[k]? = w.heap[k]?) ∧
    (w.setCells s o vs).heap.size = w.heap.size ∧ (w.setCells s o vs).os = w.os ∧ (w.setCells s o vs).tape = w.tape ∧ (w.setCells s o vs).output = w.output
  | [], o, w, cs, t, h, _ => by simp [World.setCells, h, List.take_append_drop]
  | v :: r, o, w, cs, t, h, hl => by
    simp only [List.length_cons] at hl
    have h2 : (w.setCell ⟨s, o, none⟩ v).heap[s]? = some (.cells (cs.set o v).toArray t (0, 0)) := by
      have hlt := (Array.getElem?_eq_some_iff.1 h).1
      have he := (Array.getElem?_eq_some_iff.1 h).2
      simp only [World.setCell, Array.getElem?_modify, if_pos trivial, if_true, h, Option.map_some]
      simp
    obtain ⟨i1, i2, i3, i4, i5, i6⟩ := heap_setCells r (o + 1) (w.setCell ⟨s, o, none⟩ v) (cs.set o v) t h2 (by simp; omega)
    rw [World.setCells]
    refine ⟨?_, fun k hk => ?_, ?_, ?_, ?_, ?_⟩
    · rw [i1]
      congr 2
      apply congrArg List.toArray
      have e1 : (cs.set o v).take (o + 1) = cs.take o ++ [v] := by
        rw [List.take_add_one, List.take_set_of_le (Nat.le_refl _), List.getElem?_set_self (by omega)]
        rfl
      have e2 : (cs.set o v).drop (o + 1 + r.length) = cs.drop (o + (v :: r).length) := by
        rw [List.drop_set_of_lt (by omega), List.length_cons]
        congr 1
        omega
      rw [e1, e2]
      simp
    · rw [i2 k hk]
      exact Below.heap_setCell w _ _ k (fun e => hk (by subst e; rfl))
    · rw [i3]; simp [World.setCell]
    · rw [i4]; rfl
    · rw [i5]; rfl
    · rw [i6]; rfl
theorem Bk.put (h : Bk w s B) (hx : x.length = 256) (hi : 256 * i + 256 ≤ B.length) : Bk (w.setCells s (256 * i) (cs8 x)) s (putS B i x) ∧ Kp (· = s) w (w.setCells s (256 * i) (cs8 x)) := by
  obtain ⟨rest, t, h⟩ := h
  have hl : (cs8 x).length = 256 := by rw [cs8_length, hx]
  have hBl : (cs8 B).length = B.length := cs8_length B
  obtain ⟨h1, h2, h3, h4, h5, h6⟩ := heap_setCells (cs8 x) (256 * i) w _ t h (by rw [hl, List.length_append, hBl]; omega)
  refine ⟨⟨rest, t, ?_⟩, ⟨h4, h5, h6, Nat.le_of_eq h3.symm, fun k _ hk => h2 k hk⟩⟩
  rw [h1, hl]
  apply congrArg some; apply congrArg (fun c => Obj.cells c t (0, 0))
  apply congrArg List.toArray
  rw [List.take_append_of_le_length (by omega), List.drop_append_of_le_length (by omega)]
  simp [putS, cs8, List.append_assoc, List.map_take, List.map_drop]
theorem Bk.kept (h : Bk w s B) (he : w'.heap[s]? = w.heap[s]?) : Bk w' s B := by
  obtain ⟨rest, t, h⟩ := h
  exact ⟨rest, t, he.trans h⟩

theorem Dk.pm (h : Dk w p s m B C) : p ≠ m := by
  rintro rfl
  obtain ⟨_, _, _, h1⟩ := h.hp
  obtain ⟨_, es, ck, hb, _⟩ := h.hm
  rw [h1] at hb
  cases hb
theorem Dk.sm (h : Dk w p s m B C) : s ≠ m := by
  obtain ⟨_, hm⟩ := h.hm
  exact h.hs.ne hm
theorem Dk.plt (h : Dk w p s m B C) : p < w.heap.size := by
  obtain ⟨_, _, _, h⟩ := h.hp
  exact (Array.getElem?_eq_some_iff.1 h).1
theorem Dk.slt (h : Dk w p s m B C) : s < w.heap.size := h.hs.lt
theorem Dk.mlt (h : Dk w p s m B C) : m < w.heap.size := by
  obtain ⟨_, h⟩ := h.hm
  exact h.lt
theorem ownsMap_of_heap {k : Nat} {D : DataW Value} (h : w.ownsMap Try.prog 3 secR m k D) (he : w'.heap[m]? = w.heap[m]?) : w'.ownsMap Try.prog 3 secR m k D := by
  obtain ⟨es, ck, hb, r⟩ := h
  exact ⟨es, ck, he.trans hb, r⟩
/-- A disk stays what it is while its three blocks do. -/
theorem Dk.of (h : Dk w p s m B C) (hp : w'.heap[p]? = w.heap[p]?) (hs : w'.heap[s]? = w.heap[s]?) (hm : w'.heap[m]? = w.heap[m]?) : Dk w' p s m B C :=
  ⟨by obtain ⟨c, a, b, e⟩ := h.hp; exact ⟨c, a, b, hp.trans e⟩, h.hs.kept hs, by obtain ⟨k, hk⟩ := h.hm; exact ⟨k, ownsMap_of_heap hk hm⟩, h.hB, h.hC, h.h0, h.h1, h.ps⟩
theorem Dk.kp {may : Nat → Prop} (h : Dk w p s m B C) (hk : Kp may w w') (h1 : ¬ may p) (h2 : ¬ may s) (h3 : ¬ may m) : Dk w' p s m B C :=
  h.of (hk.block p h.plt h1) (hk.block s h.slt h2) (hk.block m h.mlt h3)
theorem Dk.old (h : Dk w p s m B C) (hk : Below w.heap.size w w') : Dk w' p s m B C := h.of (hk.block p h.plt) (hk.block s h.slt) (hk.block m h.mlt)
theorem Dk.c0 (h : Dk w p s m B C) : ∃ cap, C.length ≤ cap ∧ cap ≤ 9223372036854775807 ∧ w.cell? ⟨p, 0, none⟩ = some (.slice (some ⟨s, 0, none⟩) C.length cap) ∧ w.cell? ⟨p, 1, none⟩ = some (.map (some m)) := by
  obtain ⟨c, a, b, e⟩ := h.hp
  exact ⟨c, a, b, by rw [cell_of_row w p 0 _ 61 (0, 0) e]; rfl, by rw [cell_of_row w p 1 _ 61 (0, 0) e]; rfl⟩
theorem Dk.getC (h : Dk w p s m B C) {i : Nat} {x : List UInt8} (hi : C.getD i none = some x) : x.length = 256 := by
  rw [List.getD_eq_getElem?_getD] at hi
  cases hc : C[i]? with
  | none => rw [hc] at hi; cases hi
  | some o => rw [hc] at hi; exact h.hC x (by rw [← show o = some x from hi]; exact List.mem_of_getElem? hc)
theorem val_none {i : Nat} (h : C.getD i none = none) : valAt C i = List.replicate 256 0 := by unfold valAt; rw [h]; rfl
theorem val_some {i : Nat} {x : List UInt8} (h : C.getD i none = some x) : valAt C i = x := by unfold valAt; rw [h]; rfl
theorem atv (C : Ca) (i : Nat) : (dat sec C).atKey (.int .i64 (i : Int)) (.held (sec (List.replicate 256 0))) = .held (sec (valAt C i)) := by
  cases h : C.getD i none with
  | none => rw [at_none sec C _ _ (by rw [has_dat, h]; rfl), val_none h]
  | some x => rw [at_some sec C i x _ h, val_some h]
/-- A look-up in the cache. -/
theorem Dk.lookup (h : Dk w p s m B C) {i : Nat} (hi : i ≤ 16384) : (Instr.lookup 59 (.map (some m)) (.int .i64 (i : Int)) false).run Try.prog w = .ok (sec (valAt C i)) w := by
  obtain ⟨k, hm⟩ := h.hm
  obtain ⟨v, ps, hr, hv⟩ := hm.lookup kint Try.underlying59 (z := sec (List.replicate 256 0)) (by rw [← zero63]; exact Try.zeroValue63 w) (zd := .held (sec (List.replicate 256 0))) (zp := []) rfl (keyN hi)
  rw [atv] at hv
  simp only [secR, Option.some.injEq, Prod.mk.injEq, DataW.held.injEq] at hv
  rw [hr, hv.1]
theorem Dk.look_ok (h : Dk w p s m B C) {i : Nat} (hi : i ≤ 16384) : (Instr.lookup 59 (.map (some m)) (.int .i64 (i : Int)) true).run Try.prog w = .ok (.tuple #[sec (valAt C i), .bool (C.getD i none).isSome]) w := by
  obtain ⟨k, hm⟩ := h.hm
  obtain ⟨v, ps, hr, hv⟩ := hm.look_ok kint Try.underlying59 (z := sec (List.replicate 256 0)) (by rw [← zero63]; exact Try.zeroValue63 w) (zd := .held (sec (List.replicate 256 0))) (zp := []) rfl (keyN hi)
  rw [atv] at hv
  simp only [secR, Option.some.injEq, Prod.mk.injEq, DataW.held.injEq] at hv
  rw [hr, hv.1, has_dat]
/-- The map's entries are as many as are cached. -/
theorem ownsMap_size {k : Nat} {D : DataW Value} (h : w.ownsMap Try.prog 3 secR m k D) : w.ownsMap Try.prog 3 secR m (Maps.size D) D := by
  obtain ⟨es, ck, hb, F, hs, rfl⟩ := h
  exact ⟨es, ck, hb, F, by simp [Maps.size, length_sorted], rfl⟩
/-- A store into the cache. -/
theorem Dk.store (h : Dk w p s m B C) {i : Nat} (hi : i < C.length) (hx : x.length = 256) :
    ∃ w', (Instr.mapUpdate 59 (.map (some m)) (.int .i64 (i : Int)) (sec x)).run Try.prog w = .ok () w' ∧ Dk w' p s m B (C.set i (some x)) ∧ Kp (· = m) w w' := by
  obtain ⟨k, hm⟩ := h.hm
  have hs := ownsMap_size hm
  have h1 := h.h1
  rw [size_dat] at hs
  obtain ⟨w', hr, ho, ht⟩ := hs.update kint Try.underlying59 (by have := idx_len C 0; simp only [maxLen]; omega) (keyN (i := i) (by omega)) (val := sec x) (d := .held (sec x)) (ps := []) rfl
  have hc := ho.canon kint
  rw [put_dat sec C i x hi hc] at ho
  have hb : ∀ q, q < w.heap.size → q ≠ m → w'.heap[q]? = w.heap[q]? := fun q hq hn => ht.block q hq (fun e => hn (by injection e))
  refine ⟨w', hr, ⟨?_, h.hs.kept (hb s h.slt h.sm), ⟨_, ho⟩, by simpa using h.hB, ?_, by simpa using h.h0, by simpa using h.h1, h.ps⟩, ⟨ht.os, ht.tape, ht.output, ht.size, fun q hq hn => hb q hq hn⟩⟩
  · obtain ⟨c, a, b, e⟩ := h.hp
    exact ⟨c, by simpa using a, b, by rw [hb p h.plt h.pm]; simpa using e⟩
  · intro y hy
    rcases List.mem_or_eq_of_mem_set hy with h' | h'
    · exact h.hC y h'
    · injection h' with h'
      rw [h']
      exact hx
/-- The cache is emptied. -/
theorem Dk.clear (h : Dk w p s m B C) (ty : TypeId) :
    ∃ w', (Builtin.clear_ #[59] ty #[.map (some m)]).run Try.prog w = .ok (.tuple #[]) w' ∧ Dk w' p s m B (noC C.length) ∧ Kp (· = m) w w' := by
  obtain ⟨k, es, ck, hb, F, hs, hD⟩ := h.hm
  have hlt := (Array.getElem?_eq_some_iff.1 hb).1
  refine ⟨ChangeMaps.setBlock w m (.map #[] ck), ?_, ?_, ?_⟩
  · simp [Builtin.clear_, run_underlying Try.underlying59, MapKept.run_getObj_map hb, MapKept.run_setObj_map _ hb, Result.andThen, ChangeMaps.setBlock]
  · have hk : ∀ q, q ≠ m → (ChangeMaps.setBlock w m (.map #[] ck)).heap[q]? = w.heap[q]? := fun q hq => ChangeMaps.heap_setBlock_other hb _ hq
    refine ⟨?_, h.hs.kept (hk s h.sm), ⟨0, #[], ck, ChangeMaps.heap_setBlock_same hb _, ⟨by simp, MapKept.stamped_empty ck, by simp⟩, by simp, by rw [dat_noC]; rfl⟩, by simpa [noC] using h.hB, ?_, by simpa [noC] using h.h0, by simpa [noC] using h.h1, h.ps⟩
    · obtain ⟨c, a, b, e⟩ := h.hp
      exact ⟨c, by simpa [noC] using a, b, by rw [hk p h.pm]; simpa [noC] using e⟩
    · intro x hx
      have := List.eq_of_mem_replicate hx
      cases this
  · exact ⟨rfl, rfl, rfl, by simp [ChangeMaps.setBlock], fun q hq hn => ChangeMaps.heap_setBlock_other hb _ hn⟩
end
end Go.Proofs.Ytphifbhgocjhcaa
