/- Rows of strings and of bools; what DiskKeeps' two lists hold. -/
import Derived.Test.YtphifbhgocjhcaaCl
import Derived.Test.YtphifbhgocjhcaaFe
import Derived.Test.YtphifbhgocjhcaaRf
namespace Go.Proofs.Ytphifbhgocjhcaa
set_option linter.unusedSimpArgs false
set_option linter.unusedVariables false
open Go.RowKit Go.Maps

/-- A row of strings. -/
def Sl (w : World) (g : Nat) (L : List (List UInt8)) : Prop := w.heap[g]? = some (.cells (L.map fun x => Value.string (str x)).toArray 9 (0, 0))
/-- A row of bools. -/
def Bo (w : World) (g : Nat) (L : List Bool) : Prop := w.heap[g]? = some (.cells (L.map Value.bool).toArray 4 (0, 0))
section
variable {w w' : World} {g : Nat} {L : List (List UInt8)} {M : List Bool}
theorem Sl.lt (h : Sl w g L) : g < w.heap.size := (Array.getElem?_eq_some_iff.1 h).1
theorem Bo.lt (h : Bo w g M) : g < w.heap.size := (Array.getElem?_eq_some_iff.1 h).1
theorem Sl.of (h : Sl w g L) (e : w'.heap[g]? = w.heap[g]?) : Sl w' g L := e.trans h
theorem Bo.of (h : Bo w g M) (e : w'.heap[g]? = w.heap[g]?) : Bo w' g M := e.trans h
theorem Sl.cell (h : Sl w g L) {i : Nat} {x : List UInt8} (hi : L[i]? = some x) : w.cell? ⟨g, i, none⟩ = some (.string (str x)) := by
  rw [cell_of_row w g i _ 9 (0, 0) h]
  simp [hi]
theorem Bo.cell (h : Bo w g M) {i : Nat} {b : Bool} (hi : M[i]? = some b) : w.cell? ⟨g, i, none⟩ = some (.bool b) := by
  rw [cell_of_row w g i _ 4 (0, 0) h]
  simp [hi]
theorem Sl.frozen (h : Sl w g L) (j : Nat) : w.frozen? ⟨g, j, none⟩ = false := by
  unfold Sl at h
  simp [World.frozen?, h]
theorem Bo.frozen (h : Bo w g M) (j : Nat) : w.frozen? ⟨g, j, none⟩ = false := by
  unfold Bo at h
  simp [World.frozen?, h]
theorem Sl.set (h : Sl w g L) (i : Nat) (x : List UInt8) : Sl (w.setCell ⟨g, i, none⟩ (.string (str x))) g (L.set i x) := by
  unfold Sl at h ⊢
  simp only [World.setCell, Array.getElem?_modify, if_pos trivial, if_true, h, Option.map_some]
  simp [List.map_set]
theorem Bo.set (h : Bo w g M) (i : Nat) (b : Bool) : Bo (w.setCell ⟨g, i, none⟩ (.bool b)) g (M.set i b) := by
  unfold Bo at h ⊢
  simp only [World.setCell, Array.getElem?_modify, if_pos trivial, if_true, h, Option.map_some]
  simp [List.map_set]
theorem kp_set (w : World) (g i : Nat) (v : Value) : Kp (· = g) w (w.setCell ⟨g, i, none⟩ v) :=
  ⟨rfl, rfl, rfl, by simp [World.setCell], fun k _ hk => Below.heap_setCell w _ v k (fun e => hk (by subst e; rfl))⟩
/-- A whole row of strings written over. -/
theorem Sl.over (h : Sl w g L) (L' : List (List UInt8)) (hl : L'.length = L.length) : Sl (w.setCells g 0 (L'.map fun x => Value.string (str x))) g L' ∧ Kp (· = g) w (w.setCells g 0 (L'.map fun x => Value.string (str x))) := by
  obtain ⟨h1, h2, h3, h4, h5, h6⟩ := heap_setCells (s := g) (L'.map fun x => Value.string (str x)) 0 w (L.map fun x => Value.string (str x)) 9 h (by simp [hl])
  have e : (L.map fun x => Value.string (str x)).take 0 ++ (L'.map fun x => Value.string (str x)) ++ (L.map fun x => Value.string (str x)).drop (0 + (L'.map fun x => Value.string (str x)).length) = L'.map fun x => Value.string (str x) := by
    rw [List.take_zero, List.nil_append, List.drop_of_length_le (by simp [hl]), List.append_nil]
  rw [e] at h1
  exact ⟨h1, ⟨h4, h5, h6, Nat.le_of_eq h3.symm, fun k _ hk => h2 k hk⟩⟩
end
theorem info_str : (Try.prog.info? 9).map (fun i => (i.zero, i.size, i.bytes)) = some (some (.string (str [])), 1, 16) := by kernel_rfl
theorem run_make55 (w : World) (n : Nat) (hn : n ≤ 16384) : (Instr.makeSlice 55 (.int .i64 (n : Int)) (.int .i64 (n : Int))).run Try.prog w = .ok (.slice (some ⟨w.heap.size, 0, none⟩) n n) (w.alloc (.cells ((List.replicate n ([] : List UInt8)).map fun x => Value.string (str x)).toArray 9)) := by
  obtain ⟨i, hi, hz0, hz1, hz2⟩ := info_parts info_str
  have hr := run_make (P := Try.prog) w 55 9 i _ Try.underlying55 hi hz0 .i64 .i64 n n (by omega) (Int.le_refl _) (by rw [hz2]; omega) (by omega)
  rw [hr, hz1, Nat.mul_one]
  have : madeCells (Value.string (str [])).cells n = ((List.replicate n ([] : List UInt8)).map fun x => Value.string (str x)).toArray := by
    apply Array.ext
    · simp [size_madeCells]
    · intro j h1 h2
      rw [made_const (Value.string (str [])).cells (.string (str [])) (by simp [Value.cells]) (fun k hk => by simp [Value.cells] at hk; subst hk; rfl) n j h1]
      simp
  simp only [Int.toNat_natCast, this]
theorem run_make44 (w : World) (n : Nat) (hn : n ≤ 16384) : (Instr.makeSlice 44 (.int .i64 (n : Int)) (.int .i64 (n : Int))).run Try.prog w = .ok (.slice (some ⟨w.heap.size, 0, none⟩) n n) (w.alloc (.cells ((List.replicate n false).map Value.bool).toArray 4)) := by
  obtain ⟨i, hi, hz0, hz1, hz2⟩ := info_parts info_bool
  have hr := run_make (P := Try.prog) w 44 4 i _ Try.underlying44 hi hz0 .i64 .i64 n n (by omega) (Int.le_refl _) (by rw [hz2]; omega) (by omega)
  rw [hr, hz1, Nat.mul_one]
  have : madeCells (Value.bool false).cells n = ((List.replicate n false).map Value.bool).toArray := by
    apply Array.ext
    · simp [size_madeCells]
    · intro j h1 h2
      rw [made_const (Value.bool false).cells (.bool false) (by simp [Value.cells]) (fun k hk => by simp [Value.cells] at hk; subst hk; rfl) n j h1]
      simp
  simp only [Int.toNat_natCast, this]

/-! The two lists. -/
def nowL (S : List UInt8 × Ca) : List (List UInt8) := (List.range S.2.length).map fun i => look S.1 S.2 i
def safeL (S : List UInt8 × Ca) : List (List UInt8) := (List.range S.2.length).map fun i => sect S.1 i
def cachL (S : List UInt8 × Ca) : List Bool := S.2.map Option.isSome
theorem nowL_len (S : List UInt8 × Ca) : (nowL S).length = S.2.length := by simp [nowL]
theorem safeL_len (S : List UInt8 × Ca) : (safeL S).length = S.2.length := by simp [safeL]
theorem nowL_get (S : List UInt8 × Ca) {i : Nat} (h : i < S.2.length) : (nowL S)[i]? = some (look S.1 S.2 i) := by simp [nowL, h]
theorem safeL_get (S : List UInt8 × Ca) {i : Nat} (h : i < S.2.length) : (safeL S)[i]? = some (sect S.1 i) := by simp [safeL, h]
theorem cachL_get (S : List UInt8 × Ca) {i : Nat} (h : i < S.2.length) : (cachL S)[i]? = some (S.2.getD i none).isSome := by
  simp [cachL, List.getD_eq_getElem?_getD, List.getElem?_eq_getElem h]
theorem sect_put {B x : List UInt8} {i j : Nat} (hx : x.length = 256) (hi : 256 * i + 256 ≤ B.length) (hj : 256 * j + 256 ≤ B.length) : sect (putS B i x) j = if j = i then x else sect B j := by
  apply List.ext_getElem?
  intro a
  have hl : (B.take (256 * i)).length = 256 * i := by rw [List.length_take]; omega
  by_cases ha : a < 256
  · have key : (putS B i x)[256 * j + a]? = if j = i then x[a]? else B[256 * j + a]? := by
      unfold putS
      by_cases e : j = i
      · subst e
        rw [if_pos rfl, List.append_assoc, List.getElem?_append_right (by omega), List.getElem?_append_left (by omega)]
        congr 1
        omega
      · rw [if_neg e, List.append_assoc]
        by_cases h : j < i
        · rw [List.getElem?_append_left (by omega), List.getElem?_take, if_pos (by omega)]
        · rw [List.getElem?_append_right (by omega), List.getElem?_append_right (by omega), List.getElem?_drop]
          congr 1
          omega
    simp only [sect, List.getElem?_take, if_pos ha, List.getElem?_drop]
    rw [key]
    split
    · rfl
    · rw [List.getElem?_take, if_pos ha, List.getElem?_drop]
  · rw [List.getElem?_eq_none (by rw [sect_len (by rw [putS_len hx hi]; exact hj)]; omega)]
    split
    · rw [List.getElem?_eq_none (by omega)]
    · rw [List.getElem?_eq_none (by rw [sect_len hj]; omega)]
theorem sect_settle {C : Ca} (hC : ∀ x, some x ∈ C → x.length = 256) {j : Nat} : ∀ (l : List Nat) (B : List UInt8), (∀ i ∈ l, 256 * i + 256 ≤ B.length) → 256 * j + 256 ≤ B.length → sect (settle C l B) j = if j ∈ l then valAt C j else sect B j
  | [], B, _, _ => by simp [settle]
  | i :: r, B, h, hj => by
    have hi := h i (by simp)
    have hv := valAt_len hC i
    have e := putS_len hv hi
    rw [settle, sect_settle hC r _ (fun k hk => by rw [e]; exact h k (by simp [hk])) (by rw [e]; exact hj), sect_put hv hi hj]
    by_cases h1 : j ∈ r
    · rw [if_pos h1, if_pos (by simp [h1])]
    · rw [if_neg h1]
      by_cases h2 : j = i
      · subst h2
        rw [if_pos rfl, if_pos (by simp)]
      · rw [if_neg h2, if_neg (by simp [h1, h2])]
theorem look_noC (B : List UInt8) (n i : Nat) : look B (noC n) i = sect B i := by
  unfold look noC
  rw [List.getD_eq_getElem?_getD, List.getElem?_replicate]
  split <;> rfl
theorem nowL_noC (B : List UInt8) (n : Nat) : nowL (B, noC n) = safeL (B, noC n) := by
  simp only [nowL, safeL, look_noC]
theorem cachL_noC (B : List UInt8) (n : Nat) : cachL (B, noC n) = List.replicate n false := by simp [cachL, noC]
theorem noC_len (n : Nat) : (noC n).length = n := by simp [noC]
/-- Behind a flush. -/
theorem safeL_flush {S : List UInt8 × Ca} (hC : ∀ x, some x ∈ S.2 → x.length = 256) (hB : S.1.length = 256 * S.2.length) : safeL (settle S.2 (idx 0 S.2) S.1, noC S.2.length) = nowL S := by
  unfold safeL nowL
  rw [noC_len]
  refine List.map_congr_left fun j hj => ?_
  have hj : j < S.2.length := by simpa using hj
  show sect (settle S.2 (idx 0 S.2) S.1) j = _
  rw [sect_settle hC _ _ (fun i hi => by have := idx_lt S.2 0 i hi; omega) (by omega)]
  have hm := idx_mem S.2 0 j
  rw [Nat.zero_add] at hm
  cases hg : S.2.getD j none with
  | none => rw [if_neg (fun h => by obtain ⟨x, hx⟩ := hm.1 h; rw [hg] at hx; cases hx), look_none hg]
  | some x => rw [if_pos (hm.2 ⟨x, hg⟩), look_some hg, val_some hg]
/-- A crash, up to sector m. -/
def crB (S : List UInt8 × Ca) (keep : List Bool) (m : Nat) : List UInt8 := settle S.2 (chosen (idx 0 (S.2.take m)) keep) S.1
theorem crB_zero (S : List UInt8 × Ca) (keep : List Bool) : crB S keep 0 = S.1 := by simp [crB, idx, chosen, settle]
theorem crB_end (S : List UInt8 × Ca) (keep : List Bool) : crB S keep S.2.length = settle S.2 (chosen (idx 0 S.2) keep) S.1 := by rw [crB, List.take_of_length_le (Nat.le_refl _)]
theorem crB_len {S : List UInt8 × Ca} (hC : ∀ x, some x ∈ S.2 → x.length = 256) (hB : S.1.length = 256 * S.2.length) (keep : List Bool) (m : Nat) : (crB S keep m).length = S.1.length := by
  refine settle_len hC _ _ (fun i hi => ?_)
  have h1 := idx_lt (S.2.take m) 0 i (chosen_sub _ _ i hi)
  rw [List.length_take] at h1
  omega
theorem crB_none (S : List UInt8 × Ca) (keep : List Bool) {m : Nat} (hm : m < S.2.length) (h : S.2.getD m none = none) : crB S keep (m + 1) = crB S keep m ∧ idx 0 (S.2.take (m + 1)) = idx 0 (S.2.take m) := by
  have hge : S.2[m]? = some (S.2.getD m none) := by rw [List.getD_eq_getElem?_getD, List.getElem?_eq_getElem hm]; rfl
  have := idx_take S.2 0 m _ hge
  rw [h] at this
  have e : idx 0 (S.2.take (m + 1)) = idx 0 (S.2.take m) := by rw [this]; simp
  exact ⟨by rw [crB, e]; rfl, e⟩
theorem crB_some (S : List UInt8 × Ca) (keep : List Bool) {m : Nat} {x : List UInt8} (hm : m < S.2.length) (h : S.2.getD m none = some x) :
    crB S keep (m + 1) = (if keep.getD (idx 0 (S.2.take m)).length false then putS (crB S keep m) m x else crB S keep m) ∧ (idx 0 (S.2.take (m + 1))).length = (idx 0 (S.2.take m)).length + 1 := by
  have hge : S.2[m]? = some (S.2.getD m none) := by rw [List.getD_eq_getElem?_getD, List.getElem?_eq_getElem hm]; rfl
  have := idx_take S.2 0 m _ hge
  rw [h] at this
  have e : idx 0 (S.2.take (m + 1)) = idx 0 (S.2.take m) ++ [m] := by rw [this]; simp
  refine ⟨?_, by rw [e]; simp⟩
  rw [crB, e, chosen_snoc]
  split
  · rw [settle_app]
    show putS _ m (valAt S.2 m) = _
    rw [val_some h]
    rfl
  · rw [List.append_nil]
    rfl
theorem safe_set {S : List UInt8 × Ca} {B x : List UInt8} {m : Nat} (hx : x.length = 256) (hB : B.length = 256 * S.2.length) (hm : m < S.2.length) : safeL (putS B m x, S.2) = (safeL (B, S.2)).set m x := by
  apply List.ext_getElem?
  intro j
  by_cases hj : j < S.2.length
  · rw [safeL_get (putS B m x, S.2) hj]
    show some (sect (putS B m x) j) = _
    rw [sect_put hx (by omega) (by omega)]
    by_cases e : j = m
    · subst e
      rw [if_pos rfl, List.getElem?_set_self (by rw [safeL_len]; exact hm)]
    · rw [if_neg e, List.getElem?_set_ne (Ne.symm e), safeL_get (B, S.2) hj]
  · rw [List.getElem?_eq_none (by rw [safeL_len]; exact Nat.le_of_not_lt hj), List.getElem?_eq_none (by rw [List.length_set, safeL_len]; exact Nat.le_of_not_lt hj)]
theorem safeL_any (B : List UInt8) (C C' : Ca) (h : C.length = C'.length) : safeL (B, C) = safeL (B, C') := by simp [safeL, h]
/-- A write. -/
theorem nowL_write {S : List UInt8 × Ca} {i : Nat} (x : List UInt8) (hi : i < S.2.length) : nowL (S.1, S.2.set i (some x)) = (nowL S).set i x := by
  apply List.ext_getElem?
  intro j
  by_cases hj : j < S.2.length
  · rw [nowL_get (S.1, S.2.set i (some x)) (by simpa using hj)]
    show some (look S.1 (S.2.set i (some x)) j) = _
    by_cases e : j = i
    · subst e
      rw [List.getElem?_set_self (by rw [nowL_len]; exact hi), look_some (x := x) (by rw [List.getD_eq_getElem?_getD, List.getElem?_set_self hi]; rfl)]
    · rw [List.getElem?_set_ne (Ne.symm e), nowL_get S hj]
      unfold look
      rw [List.getD_eq_getElem?_getD, List.getElem?_set_ne (Ne.symm e), List.getD_eq_getElem?_getD]
  · rw [List.getElem?_eq_none (by rw [nowL_len]; simpa using Nat.le_of_not_lt hj), List.getElem?_eq_none (by rw [List.length_set, nowL_len]; exact Nat.le_of_not_lt hj)]
theorem safeL_write (S : List UInt8 × Ca) (i : Nat) (o : Option (List UInt8)) : safeL (S.1, S.2.set i o) = safeL S := by simp [safeL]
theorem cachL_write (S : List UInt8 × Ca) (i : Nat) (x : List UInt8) : cachL (S.1, S.2.set i (some x)) = (cachL S).set i true := by simp [cachL, List.map_set]
/-- At first. -/
theorem sect_zs (n i : Nat) (h : i < n) : sect (zs (n * 256)) i = zs 256 := by
  unfold sect
  rw [List.drop_replicate, List.take_replicate, Nat.min_eq_left (by omega)]
theorem safeL_zs (n : Nat) : safeL (zs (n * 256), noC n) = List.replicate n (zs 256) := by
  apply List.ext_getElem?
  intro j
  by_cases hj : j < n
  · rw [safeL_get (zs (n * 256), noC n) (by rw [noC_len]; exact hj), List.getElem?_replicate, if_pos hj]
    show some (sect (zs (n * 256)) j) = _
    rw [sect_zs n j hj]
  · rw [List.getElem?_eq_none (by rw [safeL_len, noC_len]; omega), List.getElem?_eq_none (by rw [List.length_replicate]; omega)]
theorem str_append (a b : List UInt8) : str a ++ str b = str (a ++ b) := by
  apply ByteArray.ext
  simp [str]
theorem rep_step (n i : Nat) (h : i < n) (Z : List UInt8) : (List.replicate i Z ++ List.replicate (n - i) []).set i Z = List.replicate (i + 1) Z ++ List.replicate (n - (i + 1)) [] := by
  apply List.ext_getElem?
  intro j
  by_cases e : j = i
  · subst e
    rw [List.getElem?_set_self (by simp; omega)]
    simp [List.getElem?_append, List.getElem?_replicate]
  · rw [List.getElem?_set_ne (Ne.symm e)]
    simp only [List.getElem?_append, List.length_replicate, List.getElem?_replicate]
    (repeat' split) <;> first | rfl | (exfalso; omega)
end Go.Proofs.Ytphifbhgocjhcaa
