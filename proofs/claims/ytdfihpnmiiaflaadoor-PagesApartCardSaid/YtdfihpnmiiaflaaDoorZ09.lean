/- Texts of this claim, one behind the other: DSp, DDk, DFa, DFb. -/
import Derived.Test.YtdfihpnmiiaflaaDoorZ00
import Derived.Maps.Ext
import Derived.Lib.SlKeysI
import Derived.Deep.MidRow
import Derived.Maps.OwnSet
import Derived.MapFrom
import Derived.StillTailTactics
set_option linter.unusedSimpArgs false
set_option linter.unusedVariables false
section
/- Words for a disk, over lists alone: the bytes of its sectors, and of each sector what is cached. -/
namespace Go.Proofs.YtdfihpnmiiaflaaDoor
open Go.Maps

/-- What is cached, sector by sector. -/
abbrev Ca := List (Option (List UInt8))

/-- The numbers of the sectors that are cached, from number i on, rising. -/
def idx : Nat → Ca → List Nat
  | _, [] => []
  | i, none :: r => idx (i + 1) r
  | i, some _ :: r => i :: idx (i + 1) r

/-- The bytes of sector i. -/
def sect (B : List UInt8) (i : Nat) : List UInt8 := (B.drop (256 * i)).take 256
/-- Sector i is written. -/
def putS (B : List UInt8) (i : Nat) (x : List UInt8) : List UInt8 := B.take (256 * i) ++ x ++ B.drop (256 * i + 256)
/-- What is read of sector i. -/
def look (B : List UInt8) (C : Ca) (i : Nat) : List UInt8 := (C.getD i none).getD (sect B i)
/-- What a look-up in the cache gives. -/
def valAt (C : Ca) (i : Nat) : List UInt8 := (C.getD i none).getD (List.replicate 256 0)
/-- Sectors are put on the disk itself. -/
def settle (C : Ca) : List Nat → List UInt8 → List UInt8
  | [], B => B
  | i :: r, B => settle C r (putS B i (valAt C i))
/-- Those whose keep is true. -/
def chosen : List Nat → List Bool → List Nat
  | i :: r, k :: ks => if k then i :: chosen r ks else chosen r ks
  | _, _ => []
/-- Nothing is cached. -/
def noC (n : Nat) : Ca := List.replicate n none

theorem idx_lt : ∀ (C : Ca) (i : Nat), ∀ j ∈ idx i C, i ≤ j ∧ j < i + C.length
  | [], _, _, h => by simp [idx] at h
  | none :: r, i, j, h => by
    have := idx_lt r (i + 1) j h
    simp only [List.length_cons]
    omega
  | some _ :: r, i, j, h => by
    simp only [idx, List.mem_cons] at h
    simp only [List.length_cons]
    rcases h with rfl | h
    · omega
    · have := idx_lt r (i + 1) j h
      omega
theorem idx_len : ∀ (C : Ca) (i : Nat), (idx i C).length ≤ C.length
  | [], _ => by simp [idx]
  | none :: r, i => by simp only [idx, List.length_cons]; have := idx_len r (i + 1); omega
  | some _ :: r, i => by simp only [idx, List.length_cons]; have := idx_len r (i + 1); omega
theorem idx_rising : ∀ (C : Ca) (i : Nat), (idx i C).Pairwise (· < ·)
  | [], _ => by simp [idx]
  | none :: r, i => by simpa [idx] using idx_rising r (i + 1)
  | some _ :: r, i => by
    simp only [idx, List.pairwise_cons]
    exact ⟨fun j hj => by have := idx_lt r (i + 1) j hj; omega, idx_rising r (i + 1)⟩
theorem idx_noC (i n : Nat) : idx i (noC n) = [] := by
  induction n generalizing i with
  | zero => rfl
  | succ n ih => simpa [noC, List.replicate_succ, idx] using ih (i + 1)
theorem idx_mem : ∀ (C : Ca) (i j : Nat), i + j ∈ idx i C ↔ ∃ x, C.getD j none = some x
  | [], i, j => by simp [idx]
  | none :: r, i, 0 => by
    simp only [idx, List.getD_cons_zero, reduceCtorEq, exists_false, iff_false, Nat.add_zero]
    intro h
    have := idx_lt r (i + 1) i h
    omega
  | none :: r, i, j + 1 => by
    have := idx_mem r (i + 1) j
    simp only [idx, List.getD_cons_succ]
    rw [← this, show i + 1 + j = i + (j + 1) by omega]
  | some x :: r, i, 0 => by simp [idx]
  | some x :: r, i, j + 1 => by
    have := idx_mem r (i + 1) j
    simp only [idx, List.getD_cons_succ, List.mem_cons]
    rw [← this, show i + 1 + j = i + (j + 1) by omega]
    constructor
    · rintro (h | h)
      · omega
      · exact h
    · exact .inr
theorem chosen_sub : ∀ (l : List Nat) (k : List Bool), ∀ j ∈ chosen l k, j ∈ l
  | [], _, j, h => by simp [chosen] at h
  | i :: r, [], j, h => by simp [chosen] at h
  | i :: r, k :: ks, j, h => by
    unfold chosen at h
    split at h
    · rcases List.mem_cons.1 h with rfl | h
      · simp
      · exact List.mem_cons_of_mem _ (chosen_sub r ks j h)
    · exact List.mem_cons_of_mem _ (chosen_sub r ks j h)
theorem chosen_nil (l : List Nat) : chosen l [] = [] := by cases l <;> rfl

theorem putS_len {B x : List UInt8} {i : Nat} (hx : x.length = 256) (hi : 256 * i + 256 ≤ B.length) : (putS B i x).length = B.length := by
  simp only [putS, List.length_append, List.length_take, List.length_drop, hx]
  omega
theorem sect_len {B : List UInt8} {i : Nat} (hi : 256 * i + 256 ≤ B.length) : (sect B i).length = 256 := by
  simp only [sect, List.length_take, List.length_drop]
  omega
theorem valAt_len {C : Ca} (hC : ∀ x, some x ∈ C → x.length = 256) (i : Nat) : (valAt C i).length = 256 := by
  unfold valAt
  rw [List.getD_eq_getElem?_getD]
  cases h : C[i]? with
  | none => exact List.length_replicate
  | some o =>
    cases o with
    | none => exact List.length_replicate
    | some x => simpa using hC x (List.mem_of_getElem? h)
theorem look_len {B : List UInt8} {C : Ca} (hC : ∀ x, some x ∈ C → x.length = 256) {i : Nat} (hi : 256 * i + 256 ≤ B.length) : (look B C i).length = 256 := by
  unfold look
  rw [List.getD_eq_getElem?_getD]
  cases h : C[i]? with
  | none => simpa using sect_len hi
  | some o =>
    cases o with
    | none => simpa using sect_len hi
    | some x => simpa using hC x (List.mem_of_getElem? h)
theorem settle_len {C : Ca} (hC : ∀ x, some x ∈ C → x.length = 256) : ∀ (l : List Nat) (B : List UInt8), (∀ i ∈ l, 256 * i + 256 ≤ B.length) → (settle C l B).length = B.length
  | [], _, _ => rfl
  | i :: r, B, h => by
    have e := putS_len (valAt_len hC i) (h i (by simp))
    rw [settle, settle_len hC r _ (fun j hj => by rw [e]; exact h j (by simp [hj])), e]
theorem settle_app (C : Ca) : ∀ (a b : List Nat) (B : List UInt8), settle C (a ++ b) B = settle C b (settle C a B)
  | [], _, _ => rfl
  | i :: r, b, B => by rw [List.cons_append, settle, settle, settle_app C r b]

/-! The cache, as a map that is read. -/
section
variable {V : Type} (sec : List UInt8 → V)
def ent : Nat → Ca → List (Lit × DataW V)
  | _, [] => []
  | i, none :: r => ent (i + 1) r
  | i, some x :: r => (.int .i64 i, .held (sec x)) :: ent (i + 1) r
def dat (C : Ca) : DataW V := .map (ent sec 0 C)

theorem ent_keys : ∀ (C : Ca) (i : Nat), (ent sec i C).map (fun p => intOf p.1) = (idx i C).map fun j : Nat => (j : Int)
  | [], _ => rfl
  | none :: r, i => by simpa [ent, idx] using ent_keys r (i + 1)
  | some x :: r, i => by simpa [ent, idx, intOf] using ent_keys r (i + 1)
theorem keys_dat (C : Ca) : intKeys (dat sec C) = (idx 0 C).map fun j : Nat => (j : Int) := ent_keys sec C 0
theorem size_dat (C : Ca) : Maps.size (dat sec C) = (idx 0 C).length := by
  have := congrArg List.length (ent_keys sec C 0)
  simpa [Maps.size, dat] using this
theorem ent_int : ∀ (C : Ca) (i : Nat), ∀ p ∈ ent sec i C, ∃ j : Nat, i ≤ j ∧ p.1 = .int .i64 j
  | [], _, p, h => by simp [ent] at h
  | none :: r, i, p, h => by obtain ⟨j, h1, h2⟩ := ent_int r (i + 1) p h; exact ⟨j, by omega, h2⟩
  | some x :: r, i, p, h => by
    simp only [ent, List.mem_cons] at h
    rcases h with rfl | h
    · exact ⟨i, Nat.le_refl _, rfl⟩
    · obtain ⟨j, h1, h2⟩ := ent_int r (i + 1) p h
      exact ⟨j, by omega, h2⟩
theorem ent_rising : ∀ (C : Ca) (i : Nat), (ent sec i C).Pairwise (fun p q => p.1.before q.1 = true)
  | [], _ => by simp [ent]
  | none :: r, i => by simpa [ent] using ent_rising r (i + 1)
  | some x :: r, i => by
    simp only [ent, List.pairwise_cons]
    refine ⟨fun p hp => ?_, ent_rising r (i + 1)⟩
    obtain ⟨j, h1, h2⟩ := ent_int sec r (i + 1) p hp
    rw [h2]
    simp only [Lit.before, decide_eq_true_eq]
    omega
theorem canon_dat (C : Ca) : Canon (dat sec C) := ⟨_, rfl, ent_rising sec C 0, fun p hp => by obtain ⟨j, _, e⟩ := ent_int sec C 0 p hp; rw [e]; trivial⟩
theorem isMap_dat (C : Ca) : IsMap (dat sec C) := ⟨_, rfl⟩
theorem dat_noC (n : Nat) : dat sec (noC n) = .map [] := by
  unfold dat
  congr 1
  generalize 0 = i
  induction n generalizing i with
  | zero => rfl
  | succ n ih => simpa [noC, List.replicate_succ, ent] using ih (i + 1)

theorem ent_any : ∀ (C : Ca) (i : Nat) (k : Lit), (ent sec i C).any (fun p => p.1.sameKey k) = true ↔ ∃ j : Nat, ∃ x, k = .int .i64 ((i + j : Nat) : Int) ∧ C.getD j none = some x
  | [], i, k => by simp [ent]
  | none :: r, i, k => by
    simp only [ent]
    rw [ent_any r (i + 1) k]
    constructor
    · rintro ⟨j, x, rfl, h⟩
      exact ⟨j + 1, x, by rw [show i + 1 + j = i + (j + 1) by omega], h⟩
    · rintro ⟨j, x, rfl, h⟩
      cases j with
      | zero => simp at h
      | succ j => exact ⟨j, x, by rw [show i + 1 + j = i + (j + 1) by omega], h⟩
  | some y :: r, i, k => by
    simp only [ent, List.any_cons, Bool.or_eq_true]
    rw [ent_any r (i + 1) k]
    constructor
    · rintro (h | ⟨j, x, rfl, h⟩)
      · have := WideAt.sameKey_eq h
        exact ⟨0, y, by simpa using this.symm, rfl⟩
      · exact ⟨j + 1, x, by rw [show i + 1 + j = i + (j + 1) by omega], h⟩
    · rintro ⟨j, x, rfl, h⟩
      cases j with
      | zero => exact .inl (WideAt.sameKey_self trivial)
      | succ j => exact .inr ⟨j, x, by rw [show i + 1 + j = i + (j + 1) by omega], h⟩
theorem has_iff (C : Ca) (k : Lit) : Maps.has (dat sec C) k = true ↔ ∃ j : Nat, ∃ x, k = .int .i64 (j : Int) ∧ C.getD j none = some x := by
  have := ent_any sec C 0 k
  simpa [dat, has_eq] using this
theorem has_dat (C : Ca) (i : Nat) : Maps.has (dat sec C) (.int .i64 (i : Int)) = (C.getD i none).isSome := by
  rw [Bool.eq_iff_iff, has_iff, Option.isSome_iff_exists]
  constructor
  · rintro ⟨j, x, e, h⟩
    injection e with _ e
    have : i = j := by omega
    subst this
    exact ⟨x, h⟩
  · rintro ⟨x, h⟩
    exact ⟨i, x, rfl, h⟩
theorem ent_mem : ∀ (C : Ca) (i j : Nat) (x : List UInt8), C.getD j none = some x → (Lit.int .i64 ((i + j : Nat) : Int), DataW.held (sec x)) ∈ ent sec i C
  | [], i, j, x, h => by simp at h
  | none :: r, i, 0, x, h => by simp at h
  | none :: r, i, j + 1, x, h => by
    have := ent_mem r (i + 1) j x (by simpa using h)
    rw [show i + 1 + j = i + (j + 1) by omega] at this
    simpa [ent] using this
  | some y :: r, i, 0, x, h => by
    simp at h
    subst h
    simp [ent]
  | some y :: r, i, j + 1, x, h => by
    have := ent_mem r (i + 1) j x (by simpa using h)
    rw [show i + 1 + j = i + (j + 1) by omega] at this
    simp only [ent, List.mem_cons]
    exact .inr this
theorem at_some (C : Ca) (i : Nat) (x : List UInt8) (z : DataW V) (h : C.getD i none = some x) : (dat sec C).atKey (.int .i64 (i : Int)) z = .held (sec x) := by
  have := ent_mem sec C 0 i x h
  rw [Nat.zero_add] at this
  exact WideAt.atKey_mem z (show WideAt.IsKeyLit (Lit.int .i64 (i : Int)) from trivial) (apart_of_rising (ent_rising sec C 0)) this
theorem at_none (C : Ca) (k : Lit) (z : DataW V) (h : Maps.has (dat sec C) k = false) : (dat sec C).atKey k z = z := by
  exact atKey_of_not_has h z
/-- What is written is cached. -/
theorem put_dat (C : Ca) (i : Nat) (x : List UInt8) (hi : i < C.length) (hc : Canon ((dat sec C).put (.int .i64 (i : Int)) (.held (sec x)))) : (dat sec C).put (.int .i64 (i : Int)) (.held (sec x)) = dat sec (C.set i (some x)) := by
  have hk : WideAt.IsKeyLit (Lit.int .i64 (i : Int)) := trivial
  have hg : (C.set i (some x)).getD i none = some x := by rw [List.getD_eq_getElem?_getD, List.getElem?_set_self hi]; rfl
  have hne : ∀ j, j ≠ i → (C.set i (some x)).getD j none = C.getD j none := fun j hj => by
    rw [List.getD_eq_getElem?_getD, List.getD_eq_getElem?_getD, List.getElem?_set_ne (Ne.symm hj)]
  have hh : ∀ k, Maps.has ((dat sec C).put (.int .i64 (i : Int)) (.held (sec x))) k = Maps.has (dat sec (C.set i (some x))) k := fun k => by
    by_cases e : k = .int .i64 (i : Int)
    · subst e
      rw [has_put_same (isMap_dat sec C) hk, has_dat, hg]
      rfl
    · rw [has_put_other e, Bool.eq_iff_iff, has_iff, has_iff]
      constructor
      · rintro ⟨j, y, rfl, h⟩
        exact ⟨j, y, rfl, by rw [hne j (fun h => e (by rw [h]))]; exact h⟩
      · rintro ⟨j, y, rfl, h⟩
        exact ⟨j, y, rfl, by rw [hne j (fun h => e (by rw [h]))] at h; exact h⟩
  refine Maps.ext hc (canon_dat sec _) hh fun k z hk' => ?_
  by_cases e : k = .int .i64 (i : Int)
  · subst e
    rw [atKey_put_same (isMap_dat sec C) hk, at_some sec _ i x z hg]
  · rw [atKey_put_other e]
    rw [hh, has_iff] at hk'
    obtain ⟨j, y, rfl, h⟩ := hk'
    have h' := h
    rw [hne j (fun h => e (by rw [h]))] at h'
    rw [at_some sec _ j y z h, at_some sec _ j y z h']
end

/-- A rising list is its own sorting. -/
theorem sort_rising (l : List Nat) (h : l.Pairwise (· < ·)) : (l.map fun j : Nat => (j : Int)).mergeSort leI = l.map fun j : Nat => (j : Int) := by
  refine List.mergeSort_of_pairwise ?_
  rw [List.pairwise_map]
  exact h.imp (fun {a b} hab => by simp only [leI, decide_eq_true_eq]; omega)
end Go.Proofs.YtdfihpnmiiaflaaDoor
end
section
/- Words for a disk in memory: its object, the block of its sectors, the map of its cache. -/
namespace Go.Proofs.YtdfihpnmiiaflaaDoor
set_option maxRecDepth 8192
set_option linter.unusedSimpArgs false
set_option linter.unusedVariables false
open Go.RowKit Go.Maps

/-- A sector as a value. -/
def sec (x : List UInt8) : Value := .agg (cs8 x).toArray
/-- How what is cached reads: as itself. -/
def secR (v : Value) : Option (DataW Value × List MemPlace) := some (.held v, [])

theorem zero63 : Value.agg Tryd.zeroCells82 = sec (List.replicate 256 0) := by kernel_rfl
theorem kint : Keyed Tryd.prog 3 := int_keyed Tryd.underlying3
theorem keyN {i : Nat} (h : i ≤ 16384) : keyOf Tryd.prog 3 (.int .i64 (i : Int)) = some (.int .i64 (i : Int)) :=
  keyOf_int_mk Tryd.underlying3 (WalkArith.wf_i64 (by omega))

/-- Block s holds the bytes B at its head. -/
def Bd (w : World) (s : Nat) (B : List UInt8) : Prop := ∃ rest t, w.heap[s]? = some (.cells (cs8 B ++ rest).toArray t (0, 0))

/-- THE OBJECT AT p IS A DISK: its sectors in block s, its cache in block m. -/
structure Dk (w : World) (p s m : Nat) (B : List UInt8) (C : Ca) : Prop where
  hp : ∃ cap, C.length ≤ cap ∧ cap ≤ 9223372036854775807 ∧ w.heap[p]? = some (.cells #[.slice (some ⟨s, 0, none⟩) C.length cap, .map (some m)] 61 (0, 0))
  hs : Bd w s B
  hm : ∃ k, w.ownsMap Tryd.prog 3 secR m k (dat sec C)
  hB : B.length = 256 * C.length
  hC : ∀ x, some x ∈ C → x.length = 256
  h0 : 0 < C.length
  h1 : C.length ≤ 16384
  ps : p ≠ s

section
variable {w w' : World} {p s m : Nat} {B x : List UInt8} {C : Ca} {i : Nat}

theorem Bd.lt (h : Bd w s B) : s < w.heap.size := by
  obtain ⟨_, _, h⟩ := h
  exact (Array.getElem?_eq_some_iff.1 h).1
theorem Bd.ne (h : Bd w s B) {k : Nat} {D : DataW Value} (hm : w.ownsMap Tryd.prog 3 secR m k D) : s ≠ m := by
  rintro rfl
  obtain ⟨_, _, h⟩ := h
  obtain ⟨es, ck, hb, _⟩ := hm
  rw [h] at hb
  cases hb
theorem Bd.cell (h : Bd w s B) {j : Nat} {b : UInt8} (hj : B[j]? = some b) : w.cell? ⟨s, j, none⟩ = some (B8 b) := by
  obtain ⟨rest, t, h⟩ := h
  rw [cell_of_row w s j _ t (0, 0) h]
  have hlt : j < B.length := (List.getElem?_eq_some_iff.1 hj).1
  simp only [List.getElem?_toArray]
  rw [List.getElem?_append_left (by simpa [cs8] using hlt)]
  simp [cs8, hj]
theorem Bd.range (h : Bd w s B) (hi : 256 * i + 256 ≤ B.length) : w.rangeAt s (256 * i) (cs8 (sect B i)) := by
  intro j v hv
  simp only [cs8, List.getElem?_map, Option.map_eq_some_iff, sect] at hv
  obtain ⟨b, hb, rfl⟩ := hv
  rw [List.getElem?_take] at hb
  split at hb
  · exact h.cell (by rw [← hb, List.getElem?_drop])
  · cases hb
theorem Bd.there (h : Bd w s B) (hi : 256 * i + 256 ≤ B.length) : w.there s (256 * i) 256 := by
  intro j hj
  obtain ⟨b, hb⟩ : ∃ b, B[256 * i + j]? = some b := ⟨_, List.getElem?_eq_getElem (by omega)⟩
  refine ⟨by rw [h.cell hb]; rfl, ?_⟩
  obtain ⟨rest, t, h⟩ := h
  simp [World.frozen?, h]
/-- Cells that are stored one behind the other. -/
theorem heap_setCells : ∀ (vs : List Value) (o : Nat) (w : World) (cs : List Value) (t : TypeId), w.heap[s]? = some (.cells cs.toArray t (0, 0)) → o + vs.length ≤ cs.length →
    (w.setCells s o vs).heap[s]? = some (.cells (cs.take o ++ vs ++ cs.drop (o + vs.length)).toArray t (0, 0)) ∧ (∀ k, k ≠ s → (w.setCells s o vs).heap[k]? = w.heap[k]?) ∧
    (w.setCells s o vs).heap.size = w.heap.size ∧ (w.setCells s o vs).os = w.os ∧ (w.setCells s o vs).tape = w.tape ∧ (w.setCells s o vs).output = w.output
  | [], o, w, cs, t, h, _ => by simp [World.setCells, h, List.take_append_drop]
  | v :: r, o, w, cs, t, h, hl => by
    simp only [List.length_cons] at hl
    have h2 : (w.setCell ⟨s, o, none⟩ v).heap[s]? = some (.cells (cs.set o v).toArray t (0, 0)) := by
      have hlt := (Array.getElem?_eq_some_iff.1 h).1
      have he := (Array.getElem?_eq_some_iff.1 h).2
      simp only [World.setCell, Array.getElem?_modify, if_pos trivial, if_true, h, Option.map_some]
      simp
    obtain ⟨i1, i2, i3, i4, i5, i6⟩ := heap_setCells r (o + 1) (w.setCell ⟨s, o, none⟩ v) (cs.set o v) t h2 (by simp; omega)
    rw [World.setCells]
    refine ⟨?_, fun k hk => ?_, ?_, ?_, ?_, ?_⟩
    · rw [i1]
      congr 2
      apply congrArg List.toArray
      have e1 : (cs.set o v).take (o + 1) = cs.take o ++ [v] := by
        rw [List.take_add_one, List.take_set_of_le (Nat.le_refl _), List.getElem?_set_self (by omega)]
        rfl
      have e2 : (cs.set o v).drop (o + 1 + r.length) = cs.drop (o + (v :: r).length) := by
        rw [List.drop_set_of_lt (by omega), List.length_cons]
        congr 1
        omega
      rw [e1, e2]
      simp
    · rw [i2 k hk]
      exact Below.heap_setCell w _ _ k (fun e => hk (by subst e; rfl))
    · rw [i3]; simp [World.setCell]
    · rw [i4]; rfl
    · rw [i5]; rfl
    · rw [i6]; rfl
theorem Bd.put (h : Bd w s B) (hx : x.length = 256) (hi : 256 * i + 256 ≤ B.length) : Bd (w.setCells s (256 * i) (cs8 x)) s (putS B i x) ∧ Kp (· = s) w (w.setCells s (256 * i) (cs8 x)) := by
  obtain ⟨rest, t, h⟩ := h
  have hl : (cs8 x).length = 256 := by rw [cs8_length, hx]
  have hBl : (cs8 B).length = B.length := cs8_length B
  obtain ⟨h1, h2, h3, h4, h5, h6⟩ := heap_setCells (cs8 x) (256 * i) w _ t h (by rw [hl, List.length_append, hBl]; omega)
  refine ⟨⟨rest, t, ?_⟩, ⟨h4, h5, h6, Nat.le_of_eq h3.symm, fun k _ hk => h2 k hk⟩⟩
  rw [h1, hl]
  apply congrArg some; apply congrArg (fun c => Obj.cells c t (0, 0))
  apply congrArg List.toArray
  rw [List.take_append_of_le_length (by omega), List.drop_append_of_le_length (by omega)]
  simp [putS, cs8, List.append_assoc, List.map_take, List.map_drop]
theorem Bd.kept (h : Bd w s B) (he : w'.heap[s]? = w.heap[s]?) : Bd w' s B := by
  obtain ⟨rest, t, h⟩ := h
  exact ⟨rest, t, he.trans h⟩

theorem Dk.pm (h : Dk w p s m B C) : p ≠ m := by
  rintro rfl
  obtain ⟨_, _, _, h1⟩ := h.hp
  obtain ⟨_, es, ck, hb, _⟩ := h.hm
  rw [h1] at hb
  cases hb
theorem Dk.sm (h : Dk w p s m B C) : s ≠ m := by
  obtain ⟨_, hm⟩ := h.hm
  exact h.hs.ne hm
theorem Dk.plt (h : Dk w p s m B C) : p < w.heap.size := by
  obtain ⟨_, _, _, h⟩ := h.hp
  exact (Array.getElem?_eq_some_iff.1 h).1
theorem Dk.slt (h : Dk w p s m B C) : s < w.heap.size := h.hs.lt
theorem Dk.mlt (h : Dk w p s m B C) : m < w.heap.size := by
  obtain ⟨_, h⟩ := h.hm
  exact h.lt
theorem ownsMap_of_heap {k : Nat} {D : DataW Value} (h : w.ownsMap Tryd.prog 3 secR m k D) (he : w'.heap[m]? = w.heap[m]?) : w'.ownsMap Tryd.prog 3 secR m k D := by
  obtain ⟨es, ck, hb, r⟩ := h
  exact ⟨es, ck, he.trans hb, r⟩
/-- A disk stays what it is while its three blocks do. -/
theorem Dk.of (h : Dk w p s m B C) (hp : w'.heap[p]? = w.heap[p]?) (hs : w'.heap[s]? = w.heap[s]?) (hm : w'.heap[m]? = w.heap[m]?) : Dk w' p s m B C :=
  ⟨by obtain ⟨c, a, b, e⟩ := h.hp; exact ⟨c, a, b, hp.trans e⟩, h.hs.kept hs, by obtain ⟨k, hk⟩ := h.hm; exact ⟨k, ownsMap_of_heap hk hm⟩, h.hB, h.hC, h.h0, h.h1, h.ps⟩
theorem Dk.kp {may : Nat → Prop} (h : Dk w p s m B C) (hk : Kp may w w') (h1 : ¬ may p) (h2 : ¬ may s) (h3 : ¬ may m) : Dk w' p s m B C :=
  h.of (hk.block p h.plt h1) (hk.block s h.slt h2) (hk.block m h.mlt h3)
theorem Dk.old (h : Dk w p s m B C) (hk : Below w.heap.size w w') : Dk w' p s m B C := h.of (hk.block p h.plt) (hk.block s h.slt) (hk.block m h.mlt)
theorem Dk.c0 (h : Dk w p s m B C) : ∃ cap, C.length ≤ cap ∧ cap ≤ 9223372036854775807 ∧ w.cell? ⟨p, 0, none⟩ = some (.slice (some ⟨s, 0, none⟩) C.length cap) ∧ w.cell? ⟨p, 1, none⟩ = some (.map (some m)) := by
  obtain ⟨c, a, b, e⟩ := h.hp
  exact ⟨c, a, b, by rw [cell_of_row w p 0 _ 61 (0, 0) e]; rfl, by rw [cell_of_row w p 1 _ 61 (0, 0) e]; rfl⟩
theorem Dk.getC (h : Dk w p s m B C) {i : Nat} {x : List UInt8} (hi : C.getD i none = some x) : x.length = 256 := by
  rw [List.getD_eq_getElem?_getD] at hi
  cases hc : C[i]? with
  | none => rw [hc] at hi; cases hi
  | some o => rw [hc] at hi; exact h.hC x (by rw [← show o = some x from hi]; exact List.mem_of_getElem? hc)
theorem val_none {i : Nat} (h : C.getD i none = none) : valAt C i = List.replicate 256 0 := by unfold valAt; rw [h]; rfl
theorem val_some {i : Nat} {x : List UInt8} (h : C.getD i none = some x) : valAt C i = x := by unfold valAt; rw [h]; rfl
theorem atv (C : Ca) (i : Nat) : (dat sec C).atKey (.int .i64 (i : Int)) (.held (sec (List.replicate 256 0))) = .held (sec (valAt C i)) := by
  cases h : C.getD i none with
  | none => rw [at_none sec C _ _ (by rw [has_dat, h]; rfl), val_none h]
  | some x => rw [at_some sec C i x _ h, val_some h]
/-- A look-up in the cache. -/
theorem Dk.lookup (h : Dk w p s m B C) {i : Nat} (hi : i ≤ 16384) : (Instr.lookup 59 (.map (some m)) (.int .i64 (i : Int)) false).run Tryd.prog w = .ok (sec (valAt C i)) w := by
  obtain ⟨k, hm⟩ := h.hm
  obtain ⟨v, ps, hr, hv⟩ := hm.lookup kint Tryd.underlying59 (z := sec (List.replicate 256 0)) (by rw [← zero63]; exact Tryd.zeroValue82 w) (zd := .held (sec (List.replicate 256 0))) (zp := []) rfl (keyN hi)
  rw [atv] at hv
  simp only [secR, Option.some.injEq, Prod.mk.injEq, DataW.held.injEq] at hv
  rw [hr, hv.1]
theorem Dk.look_ok (h : Dk w p s m B C) {i : Nat} (hi : i ≤ 16384) : (Instr.lookup 59 (.map (some m)) (.int .i64 (i : Int)) true).run Tryd.prog w = .ok (.tuple #[sec (valAt C i), .bool (C.getD i none).isSome]) w := by
  obtain ⟨k, hm⟩ := h.hm
  obtain ⟨v, ps, hr, hv⟩ := hm.look_ok kint Tryd.underlying59 (z := sec (List.replicate 256 0)) (by rw [← zero63]; exact Tryd.zeroValue82 w) (zd := .held (sec (List.replicate 256 0))) (zp := []) rfl (keyN hi)
  rw [atv] at hv
  simp only [secR, Option.some.injEq, Prod.mk.injEq, DataW.held.injEq] at hv
  rw [hr, hv.1, has_dat]
/-- The map's entries are as many as are cached. -/
theorem ownsMap_size {k : Nat} {D : DataW Value} (h : w.ownsMap Tryd.prog 3 secR m k D) : w.ownsMap Tryd.prog 3 secR m (Maps.size D) D := by
  obtain ⟨es, ck, hb, F, hs, rfl⟩ := h
  exact ⟨es, ck, hb, F, by simp [Maps.size, length_sorted], rfl⟩
/-- A store into the cache. -/
theorem Dk.store (h : Dk w p s m B C) {i : Nat} (hi : i < C.length) (hx : x.length = 256) :
    ∃ w', (Instr.mapUpdate 59 (.map (some m)) (.int .i64 (i : Int)) (sec x)).run Tryd.prog w = .ok () w' ∧ Dk w' p s m B (C.set i (some x)) ∧ Kp (· = m) w w' := by
  obtain ⟨k, hm⟩ := h.hm
  have hs := ownsMap_size hm
  have h1 := h.h1
  rw [size_dat] at hs
  obtain ⟨w', hr, ho, ht⟩ := hs.update kint Tryd.underlying59 (by have := idx_len C 0; simp only [maxLen]; omega) (keyN (i := i) (by omega)) (val := sec x) (d := .held (sec x)) (ps := []) rfl
  have hc := ho.canon kint
  rw [put_dat sec C i x hi hc] at ho
  have hb : ∀ q, q < w.heap.size → q ≠ m → w'.heap[q]? = w.heap[q]? := fun q hq hn => ht.block q hq (fun e => hn (by injection e))
  refine ⟨w', hr, ⟨?_, h.hs.kept (hb s h.slt h.sm), ⟨_, ho⟩, by simpa using h.hB, ?_, by simpa using h.h0, by simpa using h.h1, h.ps⟩, ⟨ht.os, ht.tape, ht.output, ht.size, fun q hq hn => hb q hq hn⟩⟩
  · obtain ⟨c, a, b, e⟩ := h.hp
    exact ⟨c, by simpa using a, b, by rw [hb p h.plt h.pm]; simpa using e⟩
  · intro y hy
    rcases List.mem_or_eq_of_mem_set hy with h' | h'
    · exact h.hC y h'
    · injection h' with h'
      rw [h']
      exact hx
/-- The cache is emptied. -/
theorem Dk.clear (h : Dk w p s m B C) (ty : TypeId) :
    ∃ w', (Builtin.clear_ #[59] ty #[.map (some m)]).run Tryd.prog w = .ok (.tuple #[]) w' ∧ Dk w' p s m B (noC C.length) ∧ Kp (· = m) w w' := by
  obtain ⟨k, es, ck, hb, F, hs, hD⟩ := h.hm
  have hlt := (Array.getElem?_eq_some_iff.1 hb).1
  refine ⟨ChangeMaps.setBlock w m (.map #[] ck), ?_, ?_, ?_⟩
  · simp [Builtin.clear_, run_underlying Tryd.underlying59, MapKept.run_getObj_map hb, MapKept.run_setObj_map _ hb, Result.andThen, ChangeMaps.setBlock]
  · have hk : ∀ q, q ≠ m → (ChangeMaps.setBlock w m (.map #[] ck)).heap[q]? = w.heap[q]? := fun q hq => ChangeMaps.heap_setBlock_other hb _ hq
    refine ⟨?_, h.hs.kept (hk s h.sm), ⟨0, #[], ck, ChangeMaps.heap_setBlock_same hb _, ⟨by simp, MapKept.stamped_empty ck, by simp⟩, by simp, by rw [dat_noC]; rfl⟩, by simpa [noC] using h.hB, ?_, by simpa [noC] using h.h0, by simpa [noC] using h.h1, h.ps⟩
    · obtain ⟨c, a, b, e⟩ := h.hp
      exact ⟨c, by simpa [noC] using a, b, by rw [hk p h.pm]; simpa [noC] using e⟩
    · intro x hx
      have := List.eq_of_mem_replicate hx
      cases this
  · exact ⟨rfl, rfl, rfl, by simp [ChangeMaps.setBlock], fun q hq hn => ChangeMaps.heap_setBlock_other hb _ hn⟩
end
end Go.Proofs.YtdfihpnmiiaflaaDoor
end
section
/- Is a disk made; has it a sector; how many. -/
namespace Go.Proofs.YtdfihpnmiiaflaaDoor
set_option maxRecDepth 8192
set_option linter.unusedSimpArgs false
set_option linter.unusedVariables false
open Go.RowKit Go.Maps

/-- The pointer to a disk. -/
abbrev ptr (p : Nat) : Value := .pointer (some ⟨p, 0, none⟩)

section
variable {w : World} {p s m : Nat} {B : List UInt8} {C : Ca}

theorem made_any (h : Dk w p s m B C) : Calls Tryd.prog 41 #[ptr p] w fun e w' => e = .returned (.bool true) ∧ w' = w := by
  obtain ⟨cap, hc, hc2, c0, c1⟩ := h.c0
  have h0 := h.h0
  have h1 := h.h1
  clear h
  go_enter Tryd.func41, Tryd.ntmps41
  go_wp2
  all_goals (go_ret; simp; try omega)

theorem made_nil (w : World) : Calls Tryd.prog 41 #[.pointer none] w fun e w' => e = .returned (.bool false) ∧ w' = w := by
  go_enter Tryd.func41, Tryd.ntmps41
  go_wp2
  go_ret
  exact ⟨rfl, rfl⟩

theorem has_any (h : Dk w p s m B C) (at_ : Int) : Calls Tryd.prog 45 #[ptr p, .int .i64 at_] w fun e w' => e = .returned (.bool (decide (0 ≤ at_ ∧ at_ < C.length))) ∧ w' = w := by
  obtain ⟨cap, hc, hc2, c0, c1⟩ := h.c0
  have h0 := h.h0
  have h1 := h.h1
  clear h
  go_enter Tryd.func45, Tryd.ntmps45
  by_cases ha : 0 ≤ at_
  · by_cases hb : at_ < (C.length : Int)
    · go_wp2
      go_ret
      simp [ha, hb]
    · go_wp2
      go_ret
      simp [ha, hb]
  · go_wp2
    go_ret
    simp [ha]
    omega

theorem size_any (h : Dk w p s m B C) : Calls Tryd.prog 26 #[ptr p] w fun e w' => e = .returned (.int .i64 (C.length : Int)) ∧ w' = w := by
  have HM := Lib.hid (made_any h)
  obtain ⟨cap, hc, hc2, c0, c1⟩ := h.c0
  clear h
  go_enter Tryd.func26, Tryd.ntmps26
  go_wp2_with (go_at_call 41; refine HM.out.mono ?_; rintro e w' ⟨rfl, rfl⟩)
  go_ret
  exact ⟨rfl, rfl⟩

theorem size_nil (w : World) : Calls Tryd.prog 26 #[.pointer none] w fun e w' => e = .returned (.int .i64 0) ∧ w' = w := by
  go_enter Tryd.func26, Tryd.ntmps26
  go_wp2_with (go_at_call 41; refine (made_nil _).mono ?_; rintro e w' ⟨rfl, rfl⟩)
  go_ret
  exact ⟨rfl, rfl⟩
end
end Go.Proofs.YtdfihpnmiiaflaaDoor
end
section
/- Write. -/
namespace Go.Proofs.YtdfihpnmiiaflaaDoor
set_option linter.unusedSimpArgs false
set_option linter.unusedVariables false
open Go.RowKit Go.Maps

section
variable {w : World} {p s m : Nat} {B : List UInt8} {C : Ca}

theorem Kp.refl (may : Nat → Prop) (w : World) : Kp may w w := (Kp.stays may).refl w
theorem Kp.drew {may : Nat → Prop} {w w' : World} (h : Kp may w w') : Kp may w w'.drew := ⟨h.os, h.tape, h.output, h.size, h.block⟩
theorem Kp.undrew {may : Nat → Prop} {w w' : World} (h : Kp may w.drew w') : Kp may w w' := ⟨h.os, h.tape, h.output, h.size, h.block⟩
theorem Dk.drew (h : Dk w p s m B C) : Dk w.drew p s m B C := h.of rfl rfl rfl

/-- A sector, loaded from wherever it lies. -/
theorem run_load_sec {ad : Addr} {l : List UInt8} (hl : l.length = 256) (hc : ∀ j u, l[j]? = some u → w.cell? (ad.add j) = some (B8 u)) : (Instr.loadAt 82 (.pointer (some ad))).run Tryd.prog w = .ok (sec l) w := by
  have hld := run_loadCells_list (P := Tryd.prog) w ad (cs8 l) (fun j v hv => by
    simp only [cs8, List.getElem?_map, Option.map_eq_some_iff] at hv
    obtain ⟨b, hb, rfl⟩ := hv
    exact hc j b hb)
  rw [cs8_length, hl] at hld
  simp only [Instr.loadAt, Instr.sureAddr, Sem.run_bind, Sem.run_pure, Result.andThen_ok, loadVar, Tryd.isAgg82, if_true, Tryd.sizeOf82, hld]
  rfl
theorem exec_load_sec {o : Oper} {a : Act} {x : Operand} (ho : o.op = .load 82 x) {ad : Addr} {l : List UInt8} (hx : a.eval x = .pointer (some ad)) (hl : l.length = 256) (hc : ∀ j u, l[j]? = some u → w.cell? (ad.add j) = some (B8 u)) :
    (execOp a.eval o).run Tryd.prog w = .ok (.value (sec l)) w := by
  unfold execOp
  simp only [ho, hx, Sem.run_bind, run_load_sec hl hc, Result.andThen_ok, Sem.run_pure]
theorem exec_arr {o : Oper} {a : Act} {x : Operand} (ho : o.op = .sliceToArrayPointer 82 x) {A : Option Addr} {n c : Nat} (hx : a.eval x = .slice A n c) (hn : 256 ≤ n) :
    (execOp a.eval o).run Tryd.prog w = .ok (.value (.pointer A)) w := by
  unfold execOp
  simp only [ho, hx, Instr.arrayAt, Sem.run_bind, run_underlying Tryd.underlying82, Result.andThen_ok, if_neg (show ¬ n < 256 by omega), Sem.run_pure]
theorem still_val {P : Program} {ops : Array Oper} {Q : Act → Prop} {a : Act} {o : Oper} {rest : List Oper} (hg : o.guard = none) {v : Value} (hrun : (execOp a.eval o).run P w = .ok (.value v) w)
    (h : wpStill P ops w Q rest (a.put o.dst v)) : wpStill P ops w Q (o :: rest) a := by
  unfold wpStill
  rw [if_pos (by simp [Region.wanted, hg])]
  unfold Oper.still
  rw [hrun]
  exact ⟨rfl, h⟩
/-- A store into a map, by its run. -/
theorem wpList_upd {P : Program} {w2 : World} {ops : Array Oper} {rest : List Oper} {o : Oper} {a : Act} {Q : Exit → Act → World → Prop} (hgd : o.guard = none) (t : TypeId) (m x v : Operand)
    (ho : o.op = Op.mapUpdate t m x v) {mv kv vv : Value} (hm : a.eval m = mv) (hx : a.eval x = kv) (hv : a.eval v = vv) (hrun : (Instr.mapUpdate t mv kv vv).run P w = .ok () w2)
    (h : wpList P ops Q rest (a.put o.dst undef) w2) : wpList P ops Q (o :: rest) a w := by
  refine wpList_plain hgd fun K hK => ?_
  unfold Oper.wp execOp
  simp only [ho, hm, hx, hv, Sem.run_bind, hrun, Result.andThen_ok, Sem.run_pure]
  exact hK _ _ h
set_option maxRecDepth 100000 in
theorem write_ok (h : Dk w p s m B C) (i : Nat) (hi : i < C.length) {top c : Nat} {A : Option Addr} {l : List UInt8} (hr : Rd w top A 256 c l) :
    Calls Tryd.prog 25 #[ptr p, .int .i64 (i : Int), .slice A 256 c] w fun e w' => e = .returned (.int .i64 0) ∧ Dk w' p s m B (C.set i (some l)) ∧ Kp (· = m) w w' := by
  have HM := Lib.hid (made_any h)
  have HH := Lib.hid (has_any h (i : Int))
  have HD := Lib.hid h
  obtain ⟨cap, hc, hc2, c0, c1⟩ := h.c0
  have hl := hr.len
  obtain ⟨ad, rfl, hb, hcell⟩ := hr.2.2 (by omega)
  have hld : (Instr.loadAt 82 (.pointer (some ad))).run Tryd.prog w.drew = .ok (sec l) w.drew := run_load_sec hl hcell
  obtain ⟨w2, hst, hD2, hK2⟩ := h.drew.store hi hl
  have h0 := h.h0
  have h1 := h.h1
  have hcap := hr.cap
  clear h hr
  go_enter Tryd.func25, Tryd.ntmps25
  go_wp2_with (first | (go_at_call 41; refine HM.out.mono ?_; rintro e w' ⟨rfl, rfl⟩) | (go_at_call 45; refine HH.out.mono ?_; rintro e w' ⟨rfl, rfl⟩))
  refine wp_region_still_tail 8 (by kernel_rfl) (by kernel_rfl) ?_
  simp only [List.take_succ_cons, List.take_zero, List.drop_succ_cons, List.drop_zero]
  still_step
  still_step
  still_step
  still_step
  still_step
  still_step
  refine still_val rfl (exec_arr rfl rfl (Nat.le_refl _)) ?_
  refine still_val rfl (exec_load_sec rfl rfl hl hcell) ?_
  refine wpStill_nil ?_
  refine wpList_upd rfl 59 _ _ _ rfl rfl rfl rfl hst ?_
  go_wp2
  go_ret
  exact ⟨rfl, hD2, hK2.undrew⟩
end
end Go.Proofs.YtdfihpnmiiaflaaDoor
end
