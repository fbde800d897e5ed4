/- Words for a disk, over lists alone: the bytes of its sectors, and of each sector what is cached. -/
import Derived.Maps.Ext
import Derived.Lib.SlKeysI
namespace Go.Proofs.Ytphifbhgocjhcaa
open Go.Maps

/-- What is cached, sector by sector. -/
abbrev Ca := List (Option (List UInt8))

/-- The numbers of the sectors that are cached, from number i on, rising. -/
def idx : Nat → Ca → List Nat
  | _, [] => []
  | i, none :: r => idx (i + 1) r
  | i, some _ :: r => i :: idx (i + 1) r

/-- The bytes of sector i. -/
def sect (B : List UInt8) (i : Nat) : List UInt8 := (B.drop (256 * i)).take 256
/-- Sector i is written. -/
def putS (B : List UInt8) (i : Nat) (x : List UInt8) : List UInt8 := B.take (256 * i) ++ x ++ B.drop (256 * i + 256)
/-- What is read of sector i. -/
def look (B : List UInt8) (C : Ca) (i : Nat) : List UInt8 := (C.getD i none).getD (sect B i)
/-- What a look-up in the cache gives. -/
def valAt (C : Ca) (i : Nat) : List UInt8 := (C.getD i none).getD (List.replicate 256 0)
/-- Sectors are put on the disk itself. -/
def settle (C : Ca) : List Nat → List UInt8 → List UInt8
  | [], B => B
  | i :: r, B => settle C r (putS B i (valAt C i))
/-- Those whose keep is true. -/
def chosen : List Nat → List Bool → List Nat
  | i :: r, k :: ks => if k then i :: chosen r ks else chosen r ks
  | _, _ => []
/-- Nothing is cached. -/
def noC (n : Nat) : Ca := List.replicate n none

theorem idx_lt : ∀ (C : Ca) (i : Nat), ∀ j ∈ idx i C, i ≤ j ∧ j < i + C.length
  | [], _, _, h => by simp [idx] at h
  | none :: r, i, j, h => by
    have := idx_lt r (i + 1) j h
    simp only [List.length_cons]
    omega
  | some _ :: r, i, j, h => by
    simp only [idx, List.mem_cons] at h
    simp only [List.length_cons]
    rcases h with rfl | h
    · omega
    · have := idx_lt r (i + 1) j h
      omega
theorem idx_len : ∀ (C : Ca) (i : Nat), (idx i C).length ≤ C.length
  | [], _ => by simp [idx]
  | none :: r, i => by simp only [idx, List.length_cons]; have := idx_len r (i + 1); omega
  | some _ :: r, i => by simp only [idx, List.length_cons]; have := idx_len r (i + 1); omega
theorem idx_rising : ∀ (C : Ca) (i : Nat), (idx i C).Pairwise (· < ·)
  | [], _ => by simp [idx]
  | none :: r, i => by simpa [idx] using idx_rising r (i + 1)
  | some _ :: r, i => by
    simp only [idx, List.pairwise_cons]
    exact ⟨fun j hj => by have := idx_lt r (i + 1) j hj; omega, idx_rising r (i + 1)⟩
theorem idx_noC (i n : Nat) : idx i (noC n) = [] := by
  induction n generalizing i with
  | zero => rfl
  | succ n ih => simpa [noC, List.replicate_succ, idx] using ih (i + 1)
theorem idx_mem : ∀ (C : Ca) (i j : Nat), i + j ∈ idx i C ↔ ∃ x, C.getD j none = some x
  | [], i, j => by simp [idx]
  | none :: r, i, 0 => by
    simp only [idx, List.getD_cons_zero, reduceCtorEq, exists_false, iff_false, Nat.add_zero]
    intro h
    have := idx_lt r (i + 1) i h
    omega
  | none :: r, i, j + 1 => by
    have := idx_mem r (i + 1) j
    simp only [idx, List.getD_cons_succ]
    rw [← this, show i + 1 + j = i + (j + 1) by omega]
  | some x :: r, i, 0 => by simp [idx]
  | some x :: r, i, j + 1 => by
    have := idx_mem r (i + 1) j
    simp only [idx, List.getD_cons_succ, List.mem_cons]
    rw [← this, show i + 1 + j = i + (j + 1) by omega]
    constructor
    · rintro (h | h)
      · omega
      · exact h
    · exact .inr
theorem chosen_sub : ∀ (l : List Nat) (k : List Bool), ∀ j ∈ chosen l k, j ∈ l
  | [], _, j, h => by simp [chosen] at h
  | i :: r, [], j, h => by simp [chosen] at h
  | i :: r, k :: ks, j, h => by
    unfold chosen at h
    split at h
    · rcases List.mem_cons.1 h with rfl | h
      · simp
      · exact List.mem_cons_of_mem _ (chosen_sub r ks j h)
    · exact List.mem_cons_of_mem _ (chosen_sub r ks j h)
theorem chosen_nil (l : List Nat) : chosen l [] = [] := by cases l <;> rfl

theorem putS_len {B x : List UInt8} {i : Nat} (hx : x.length = 256) (hi : 256 * i + 256 ≤ B.length) : (putS B i x).length = B.length := by
  simp only [putS, List.length_append, List.length_take, List.length_drop, hx]
  omega
theorem sect_len {B : List UInt8} {i : Nat} (hi : 256 * i + 256 ≤ B.length) : (sect B i).length = 256 := by
  simp only [sect, List.length_take, List.length_drop]
  omega
theorem valAt_len {C : Ca} (hC : ∀ x, some x ∈ C → x.length = 256) (i : Nat) : (valAt C i).length = 256 := by
  unfold valAt
  rw [List.getD_eq_getElem?_getD]
  cases h : C[i]? with
  | none => exact List.length_replicate
  | some o =>
    cases o with
    | none => exact List.length_replicate
    | some x => simpa using hC x (List.mem_of_getElem? h)
theorem look_len {B : List UInt8} {C : Ca} (hC : ∀ x, some x ∈ C → x.length = 256) {i : Nat} (hi : 256 * i + 256 ≤ B.length) : (look B C i).length = 256 := by
  unfold look
  rw [List.getD_eq_getElem?_getD]
  cases h : C[i]? with
  | none => simpa using sect_len hi
  | some o =>
    cases o with
    | none => simpa using sect_len hi
    | some x => simpa using hC x (List.mem_of_getElem? h)
theorem settle_len {C : Ca} (hC : ∀ x, some x ∈ C → x.length = 256) : ∀ (l : List Nat) (B : List UInt8), (∀ i ∈ l, 256 * i + 256 ≤ B.length) → (settle C l B).length = B.length
  | [], _, _ => rfl
  | i :: r, B, h => by
    have e := putS_len (valAt_len hC i) (h i (by simp))
    rw [settle, settle_len hC r _ (fun j hj => by rw [e]; exact h j (by simp [hj])), e]
theorem settle_app (C : Ca) : ∀ (a b : List Nat) (B : List UInt8), settle C (a ++ b) B = settle C b (settle C a B)
  | [], _, _ => rfl
  | i :: r, b, B => by rw [List.cons_append, settle, settle, settle_app C r b]

/-! The cache, as a map that is read. -/
section
variable {V : Type} (sec : List UInt8 → V)
def ent : Nat → Ca → List (Lit × DataW V)
  | _, [] => []
  | i, none :: r => ent (i + 1) r
  | i, some x :: r => (.int .i64 i, .held (sec x)) :: ent (i + 1) r
def dat (C : Ca) : DataW V := .map (ent sec 0 C)

theorem ent_keys : ∀ (C : Ca) (i : Nat), (ent sec i C).map (fun p => intOf p.1) = (idx i C).map fun j : Nat => (j : Int)
  | [], _ => rfl
  | none :: r, i => by simpa [ent, idx] using ent_keys r (i + 1)
  | some x :: r, i => by simpa [ent, idx, intOf] using ent_keys r (i + 1)
theorem keys_dat (C : Ca) : intKeys (dat sec C) = (idx 0 C).map fun j : Nat => (j : Int) := ent_keys sec C 0
theorem size_dat (C : Ca) : Maps.size (dat sec C) = (idx 0 C).length := by
  have := congrArg List.length (ent_keys sec C 0)
  simpa [Maps.size, dat] using this
theorem ent_int : ∀ (C : Ca) (i : Nat), ∀ p ∈ ent sec i C, ∃ j : Nat, i ≤ j ∧ p.1 = .int .i64 j
  | [], _, p, h => by simp [ent] at h
  | none :: r, i, p, h => by obtain ⟨j, h1, h2⟩ := ent_int r (i + 1) p h; exact ⟨j, by omega, h2⟩
  | some x :: r, i, p, h => by
    simp only [ent, List.mem_cons] at h
    rcases h with rfl | h
    · exact ⟨i, Nat.le_refl _, rfl⟩
    · obtain ⟨j, h1, h2⟩ := ent_int r (i + 1) p h
      exact ⟨j, by omega, h2⟩
theorem ent_rising : ∀ (C : Ca) (i : Nat), (ent sec i C).Pairwise (fun p q => p.1.before q.1 = true)
  | [], _ => by simp [ent]
  | none :: r, i => by simpa [ent] using ent_rising r (i + 1)
  | some x :: r, i => by
    simp only [ent, List.pairwise_cons]
    refine ⟨fun p hp => ?_, ent_rising r (i + 1)⟩
    obtain ⟨j, h1, h2⟩ := ent_int sec r (i + 1) p hp
    rw [h2]
    simp only [Lit.before, decide_eq_true_eq]
    omega
theorem canon_dat (C : Ca) : Canon (dat sec C) := ⟨_, rfl, ent_rising sec C 0, fun p hp => by obtain ⟨j, _, e⟩ := ent_int sec C 0 p hp; rw [e]; trivial⟩
theorem isMap_dat (C : Ca) : IsMap (dat sec C) := ⟨_, rfl⟩
theorem dat_noC (n : Nat) : dat sec (noC n) = .map [] := by
  unfold dat
  congr 1
  generalize 0 = i
  induction n generalizing i with
  | zero => rfl
  | succ n ih => simpa [noC, List.replicate_succ, ent] using ih (i + 1)

theorem ent_any : ∀ (C : Ca) (i : Nat) (k : Lit), (ent sec i C).any (fun p => p.1.sameKey k) = true ↔ ∃ j : Nat, ∃ x, k = .int .i64 ((i + j : Nat) : Int) ∧ C.getD j none = some x
  | [], i, k => by simp [ent]
  | none :: r, i, k => by
    simp only [ent]
    rw [ent_any r (i + 1) k]
    constructor
    · rintro ⟨j, x, rfl, h⟩
      exact ⟨j + 1, x, by rw [show i + 1 + j = i + (j + 1) by omega], h⟩
    · rintro ⟨j, x, rfl, h⟩
      cases j with
      | zero => simp at h
      | succ j => exact ⟨j, x, by rw [show i + 1 + j = i + (j + 1) by omega], h⟩
  | some y :: r, i, k => by
    simp only [ent, List.any_cons, Bool.or_eq_true]
    rw [ent_any r (i + 1) k]
    constructor
    · rintro (h | ⟨j, x, rfl, h⟩)
      · have := WideAt.sameKey_eq h
        exact ⟨0, y, by simpa using this.symm, rfl⟩
      · exact ⟨j + 1, x, by rw [show i + 1 + j = i + (j + 1) by omega], h⟩
    · rintro ⟨j, x, rfl, h⟩
      cases j with
      | zero => exact .inl (WideAt.sameKey_self trivial)
      | succ j => exact .inr ⟨j, x, by rw [show i + 1 + j = i + (j + 1) by omega], h⟩
theorem has_iff (C : Ca) (k : Lit) : Maps.has (dat sec C) k = true ↔ ∃ j : Nat, ∃ x, k = .int .i64 (j : Int) ∧ C.getD j none = some x := by
  have := ent_any sec C 0 k
  simpa [dat, has_eq] using this
theorem has_dat (C : Ca) (i : Nat) : Maps.has (dat sec C) (.int .i64 (i : Int)) = (C.getD i none).isSome := by
  rw [Bool.eq_iff_iff, has_iff, Option.isSome_iff_exists]
  constructor
  · rintro ⟨j, x, e, h⟩
    injection e with _ e
    have : i = j := by omega
    subst this
    exact ⟨x, h⟩
  · rintro ⟨x, h⟩
    exact ⟨i, x, rfl, h⟩
theorem ent_mem : ∀ (C : Ca) (i j : Nat) (x : List UInt8), C.getD j none = some x → (Lit.int .i64 ((i + j : Nat) : Int), DataW.held (sec x)) ∈ ent sec i C
  | [], i, j, x, h => by simp at h
  | none :: r, i, 0, x, h => by simp at h
  | none :: r, i, j + 1, x, h => by
    have := ent_mem r (i + 1) j x (by simpa using h)
    rw [show i + 1 + j = i + (j + 1) by omega] at this
    simpa [ent] using this
  | some y :: r, i, 0, x, h => by
    simp at h
    subst h
    simp [ent]
  | some y :: r, i, j + 1, x, h => by
    have := ent_mem r (i + 1) j x (by simpa using h)
    rw [show i + 1 + j = i + (j + 1) by omega] at this
    simp only [ent, List.mem_cons]
    exact .inr this
theorem at_some (C : Ca) (i : Nat) (x : List UInt8) (z : DataW V) (h : C.getD i none = some x) : (dat sec C).atKey (.int .i64 (i : Int)) z = .held (sec x) := by
  have := ent_mem sec C 0 i x h
  rw [Nat.zero_add] at this
  exact WideAt.atKey_mem z (show WideAt.IsKeyLit (Lit.int .i64 (i : Int)) from trivial) (apart_of_rising (ent_rising sec C 0)) this
theorem at_none (C : Ca) (k : Lit) (z : DataW V) (h : Maps.has (dat sec C) k = false) : (dat sec C).atKey k z = z := by
  exact atKey_of_not_has h z
/-- What is written is cached. -/
theorem put_dat (C : Ca) (i : Nat) (x : List UInt8) (hi : i < C.length) (hc : Canon ((dat sec C).put (.int .i64 (i : Int)) (.held (sec x)))) : (dat sec C).put (.int .i64 (i : Int)) (.held (sec x)) = dat sec (C.set i (some x)) := by
  have hk : WideAt.IsKeyLit (Lit.int .i64 (i : Int)) := trivial
  have hg : (C.set i (some x)).getD i none = some x := by rw [List.getD_eq_getElem?_getD, List.getElem?_set_self hi]; rfl
  have hne : ∀ j, j ≠ i → (C.set i (some x)).getD j none = C.getD j none := fun j hj => by
    rw [List.getD_eq_getElem?_getD, List.getD_eq_getElem?_getD, List.getElem?_set_ne (Ne.symm hj)]
  have hh : ∀ k, Maps.has ((dat sec C).put (.int .i64 (i : Int)) (.held (sec x))) k = Maps.has (dat sec (C.set i (some x))) k := fun k => by
    by_cases e : k = .int .i64 (i : Int)
    · subst e
      rw [has_put_same (isMap_dat sec C) hk, has_dat, hg]
      rfl
    · rw [has_put_other e, Bool.eq_iff_iff, has_iff, has_iff]
      constructor
      · rintro ⟨j, y, rfl, h⟩
        exact ⟨j, y, rfl, by rw [hne j (fun h => e (by rw [h]))]; exact h⟩
      · rintro ⟨j, y, rfl, h⟩
        exact ⟨j, y, rfl, by rw [hne j (fun h => e (by rw [h]))] at h; exact h⟩
  refine Maps.ext hc (canon_dat sec _) hh fun k z hk' => ?_
  by_cases e : k = .int .i64 (i : Int)
  · subst e
    rw [atKey_put_same (isMap_dat sec C) hk, at_some sec _ i x z hg]
  · rw [atKey_put_other e]
    rw [hh, has_iff] at hk'
    obtain ⟨j, y, rfl, h⟩ := hk'
    have h' := h
    rw [hne j (fun h => e (by rw [h]))] at h'
    rw [at_some sec _ j y z h, at_some sec _ j y z h']
end

/-- A rising list is its own sorting. -/
theorem sort_rising (l : List Nat) (h : l.Pairwise (· < ·)) : (l.map fun j : Nat => (j : Int)).mergeSort leI = l.map fun j : Nat => (j : Int) := by
  refine List.mergeSort_of_pairwise ?_
  rw [List.pairwise_map]
  exact h.imp (fun {a b} hab => by simp only [leI, decide_eq_true_eq]; omega)
end Go.Proofs.Ytphifbhgocjhcaa
