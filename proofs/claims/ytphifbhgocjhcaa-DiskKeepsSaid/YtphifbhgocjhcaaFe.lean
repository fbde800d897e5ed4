/- New. -/
import Derived.Test.YtphifbhgocjhcaaFd
namespace Go.Proofs.Ytphifbhgocjhcaa
set_option linter.unusedSimpArgs false
set_option linter.unusedVariables false
open Go.RowKit Go.Maps

/-- Noughts. -/
abbrev zs (n : Nat) : List UInt8 := List.replicate n 0
theorem cs8_zero (n i : Nat) (h : i < (cs8 (zs n)).toArray.size) : (cs8 (zs n)).toArray[i] = B8 0 := by simp [cs8]
theorem made_const (Z : Array Value) (u : Value) (hs : 0 < Z.size) (hz : ∀ i (h : i < Z.size), Z[i] = u) (n i : Nat) (h : i < (madeCells Z n).size) : (madeCells Z n)[i] = u := by
  have hi : i % Z.size < Z.size := Nat.mod_lt _ hs
  simp only [madeCells, Array.getElem_map, Array.getElem_range]
  rw [getElem!_pos Z (i % Z.size) hi]
  exact hz _ hi
theorem made_zero (n : Nat) : madeCells (Value.agg Try.zeroCells63).cells n = (cs8 (zs n)).toArray := by
  rw [zero63]
  have hs : (cs8 (zs 256)).toArray.size = 256 := by rw [List.size_toArray, cs8_length]; exact List.length_replicate
  apply Array.ext
  · rw [size_madeCells, List.size_toArray, cs8_length, List.length_replicate]
  · intro i h1 h2
    exact (made_const (cs8 (zs 256)).toArray (B8 0) (by rw [hs]; omega) (fun i h => cs8_zero 256 i h) n i h1).trans (cs8_zero n i h2).symm
theorem info63f : (Try.prog.info? 63).map (fun i => (i.zero, i.size, i.bytes)) = some (some (.agg Try.zeroCells63), 256, 256) := by kernel_rfl
/-- make([]sector, n). -/
theorem run_make63 (w : World) (n : Nat) (hn : n ≤ 16384) : (Instr.makeSlice 58 (.int .i64 (n : Int)) (.int .i64 (n : Int))).run Try.prog w = .ok (.slice (some ⟨w.heap.size, 0, none⟩) n n) (w.alloc (.cells (cs8 (zs (n * 256))).toArray 63)) := by
  obtain ⟨i, hi, hz0, hz1, hz2⟩ := info_parts info63f
  have hr := run_make (P := Try.prog) w 58 63 i _ Try.underlying58 hi hz0 .i64 .i64 n n (by omega) (Int.le_refl _) (by rw [hz2]; omega) (by omega)
  rw [hr, hz1, made_zero]
  simp
section
variable {w : World} {p s m : Nat} {B : List UInt8} {C : Ca}

/-- A disk that New has laid. -/
def nw (w : World) (n : Nat) : World := ((w.alloc (.cells (cs8 (zs (n * 256))).toArray 63)).alloc (.map #[] 0)).alloc (.cells #[.slice (some ⟨w.heap.size, 0, none⟩) n n, .map (some (w.heap.size + 1))] 61)
theorem nw_dk (w : World) (n : Nat) (h0 : 0 < n) (h1 : n ≤ 16384) : Dk (nw w n) (w.heap.size + 2) w.heap.size (w.heap.size + 1) (zs (n * 256)) (noC n) := by
  have a1 : (w.alloc (.cells (cs8 (zs (n * 256))).toArray 63)).heap.size = w.heap.size + 1 := by simp
  have a2 : ((w.alloc (.cells (cs8 (zs (n * 256))).toArray 63)).alloc (.map #[] 0)).heap.size = w.heap.size + 2 := by simp
  have hs : (nw w n).heap[w.heap.size]? = some (.cells (cs8 (zs (n * 256))).toArray 63 (0, 0)) := by
    unfold nw
    rw [Below.heap_alloc _ _ _ (by rw [a2]; omega), Below.heap_alloc _ _ _ (by rw [a1]; omega)]
    exact heap_alloc_new w _
  have hm : (nw w n).heap[w.heap.size + 1]? = some (.map #[] 0) := by
    unfold nw
    rw [Below.heap_alloc _ _ _ (by rw [a2]; omega), ← a1]
    exact heap_alloc_new _ _
  have hp : (nw w n).heap[w.heap.size + 2]? = some (.cells #[.slice (some ⟨w.heap.size, 0, none⟩) n n, .map (some (w.heap.size + 1))] 61 (0, 0)) := by
    unfold nw
    rw [← a2]
    exact heap_alloc_new _ _
  refine ⟨⟨n, by simp [noC], by omega, by simpa [noC] using hp⟩, ⟨[], 63, by simpa using hs⟩, ⟨0, #[], 0, hm, ⟨by simp, MapKept.stamped_empty 0, by simp⟩, by simp, by rw [dat_noC]; rfl⟩, by simp [noC]; omega, ?_, by simpa [noC] using h0, by simpa [noC] using h1, by omega⟩
  intro x hx
  cases List.eq_of_mem_replicate hx
theorem nw_below (w : World) (n : Nat) : Below w.heap.size w (nw w n) := bl_alloc (bl_alloc (bl_alloc (bl0 w) _) _) _

set_option maxRecDepth 100000 in
theorem new_ok (w : World) (n : Nat) (h0 : 0 < n) (h1 : n ≤ 16384) : Calls Try.prog 8 #[.int .i64 (n : Int)] w fun e w' => e = .returned (.tuple #[ptr (w.heap.size + 2), .int .i64 0]) ∧ w' = nw w n := by
  have hmk := run_make63 w n h1
  have hmm := @run_makeMap Try.prog
  generalize hx : (cs8 (zs (n * 256))).toArray = X at hmk
  have HX := Lib.hid hx
  clear hx
  go_enter Try.func8, Try.ntmps8
  go_wp2
  go_ret2
  unfold nw
  rw [HX.out]
  exact ⟨rfl, rfl⟩
theorem new_bad (w : World) (n : Int) (h : ¬ (1 ≤ n ∧ n ≤ 16384)) : Calls Try.prog 8 #[.int .i64 n] w fun e w' => e = .returned (.tuple #[.pointer none, .int .i64 2]) ∧ w' = w := by
  by_cases h1 : n < 1
  · clear h
    go_enter Try.func8, Try.ntmps8
    go_wp2
    go_ret2
    exact ⟨rfl, rfl⟩
  · have h2 : n > 16384 := by omega
    clear h
    go_enter Try.func8, Try.ntmps8
    go_wp2
    go_ret2
    exact ⟨rfl, rfl⟩
end
end Go.Proofs.Ytphifbhgocjhcaa
