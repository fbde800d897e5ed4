/- append(row, make([]byte, n)...): noughts put behind a row of the call's own. -/
import Derived.Test.YtdfaliadkpdfpaaLi
import Derived.Lib.AppendZerosOnto
namespace Go.Proofs.Ytdfaliadkpdfpaa
set_option linter.unusedSimpArgs false
set_option linter.unusedVariables false
open Go.RowKit

theorem zc (n : Nat) : (Builtin.zeroCells (Value.int .u8 0).cells n).toList = cs8 (List.replicate n 0) := by
  apply List.ext_getElem?
  intro j
  simp only [Builtin.zeroCells, Value.cells, cs8, Array.toList_map, List.map_replicate, Array.toList_range]
  by_cases hj : j < n
  · simp [hj, B8, Nat.mod_one]
  · simp [hj]
theorem int_u (t : TypeId) (h : t = 3) : Try.prog.underlying t = some (.int .i64) := by subst h; exact Try.underlying3

theorem run_appz {w : World} {base : Nat} {v : Value} {xs : List UInt8} (hown : Ow w base v xs) (n : Nat) (hx : xs.length ≤ 64) (hn : n ≤ 64) (hbase : base ≤ w.heap.size) (ty : TypeId) :
    ∃ v' w', (Builtin.append_ #[22, 3] ty #[v, .int .i64 (n : Int)]).run Try.prog w = .ok v' w' ∧ Ow w' base v' (xs ++ List.replicate n 0) ∧ w.grownBy w' v.ownBlock := by
  obtain ⟨i, hi, hz0, hz1, hz2⟩ := info_parts info_u8
  have hml : (maxLen : Nat) = 9223372036854775807 := by simp [maxLen]
  have hlen : (cs8 xs ++ cs8 (List.replicate n 0)).length = (xs.length + n) * 1 := by rw [List.length_append, cs8_length, cs8_length, List.length_replicate, Nat.mul_one]
  have hgoal : ∀ (v' : Value) (w' : World), w'.ownsRow base 5 1 v' (xs.length + n) (cs8 xs ++ cs8 (List.replicate n 0)) → Ow w' base v' (xs ++ List.replicate n 0) := by
    intro v' w' h
    unfold Ow
    rw [cs8_append, List.length_append, List.length_replicate]
    exact h
  have grown : ∀ (old : Nat), old < xs.length + n → ∀ (row : Option Nat) (cells : Array Value),
      cells.toList = cs8 xs ++ cs8 (List.replicate n 0) ++ (Builtin.zeroCells (Value.int .u8 0).cells (grownCap w (xs.length + n) old 5 - (xs.length + n))).toList →
      (w.drew.alloc (.cells cells 5)).ownsRow base 5 1 (.slice (some ⟨w.heap.size, 0, none⟩) (xs.length + n) (grownCap w (xs.length + n) old 5)) (xs.length + n) (cs8 xs ++ cs8 (List.replicate n 0)) ∧
      w.grownBy (w.drew.alloc (.cells cells 5)) row := by
    intro old ho row cells hc
    have hge := grownCap_ge w (xs.length + n) old 5
    have hcm : grownCap w (xs.length + n) old 5 ≤ maxLen := grownCap_le_maxLen w (xs.length + n) old 5 (by omega)
    have hz := zc (grownCap w (xs.length + n) old 5 - (xs.length + n))
    refine ⟨⟨hlen, .inr ⟨w.heap.size, _, _, rfl, hbase, heap_alloc_new w.drew _, hge, hcm, ?_, ?_⟩⟩, ⟨rfl, rfl, rfl, by simp, fun k hk _ => heap_alloc_old w.drew _ k hk⟩⟩
    · rw [← Array.length_toList, hc, List.length_append, hlen, hz, cs8_length, List.length_replicate]
      omega
    · rw [hc, ← hlen]
      exact List.take_left
  rcases Nat.eq_zero_or_pos n with h0 | h0
  · subst h0
    refine ⟨v, w, ?_, by simpa using hown, World.grownBy.refl w _⟩
    rcases hown.2 with ⟨rfl, _⟩ | ⟨g, cap, cur, rfl, _, _, hnc, _⟩
    · simp [Builtin.append_, run_underlying Try.underlying22, run_underlying Try.underlying3, sizeOf, typeInfo, hi, asInt, asIntOf, IntKind.wrap_i64]
    · simp [Builtin.append_, run_underlying Try.underlying22, run_underlying Try.underlying3, sizeOf, typeInfo, hi, hnc, storeCells, asInt, asIntOf, IntKind.wrap_i64]
  · rcases hown.2 with ⟨rfl, hl0⟩ | ⟨g, cap, cur, rfl, hbg, hg, hnc, hcm, hcs, htake⟩
    · have hx0 : xs = [] := List.eq_nil_of_length_eq_zero hl0
      subst hx0
      have hr := Lib.run_append_nil_zeros (P := Try.prog) w 22 3 ty 5 i (.int .u8 0) .i64 .i64 Try.underlying22 Try.underlying3 hi hz0 n h0 (by omega) (by omega) (by rw [hz2]; omega)
      have hgr := grown 0 (by simp; omega) (Value.ownBlock (.slice none 0 0)) (Builtin.zeroCells (Value.int .u8 0).cells n ++ Builtin.zeroCells (Value.int .u8 0).cells (grownCap w n 0 5 - n)) (by rw [Array.toList_append, zc n]; simp [cs8])
      simp only [List.length_nil, Nat.zero_add] at hgr
      exact ⟨_, _, hr, hgoal _ _ (by simpa using hgr.1), hgr.2⟩
    · by_cases hroom : xs.length + n ≤ cap
      · have hst := run_storeCells_at Try.prog g xs.length 5 (cs8 (List.replicate n 0)) 0 cur w hg (by rw [cs8_length, List.length_replicate]; omega) (cs8_one _)
        simp only [Nat.add_zero] at hst
        refine ⟨.slice (some ⟨g, 0, none⟩) (xs.length + n) cap, w.setRow g (cur.toList.take xs.length ++ cs8 (List.replicate n 0) ++ cur.toList.drop (xs.length + (cs8 (List.replicate n 0)).length)).toArray, ?_, hgoal _ _ ⟨hlen, .inr ⟨g, cap, _, rfl, hbg, setRow_heap w g cur _ 5 _ hg, hroom, hcm, ?_, ?_⟩⟩, ⟨rfl, rfl, rfl, by simp, fun k _ hk => setRow_other w g k _ (fun e => hk (by simp [Value.ownBlock, e]))⟩⟩
        · have hw : IntKind.i64.wrap (n : Int) = n := by rw [IntKind.wrap_i64]; omega
          have hneg : ¬ ((n : Int) < 0) := by omega
          have hn0 : n ≠ 0 := by omega
          have hb : ¬ (281474976710656 < (n : Int) * (i.bytes : Int)) := by rw [hz2]; omega
          have hzr : (zeroValue 5).run Try.prog w = .ok (.int .u8 0) w := by simp [zeroValue, Sem.run_bind, typeInfo, hi, hz0]
          have hzc := zc n
          simp [Builtin.append_, run_underlying Try.underlying22, run_underlying Try.underlying3, sizeOf, typeInfo, hi, hz1, hz2, asInt, asIntOf, hw, hneg, hn0, hroom, hzr, hzc, Addr.add_lit, hst]
          intro h
          exfalso
          omega
        · simp only [List.size_toArray, List.length_append, List.length_take, List.length_drop, Array.length_toList, cs8_length, List.length_replicate]
          omega
        · rw [Nat.mul_one] at htake
          rw [htake, ← hlen]
          exact List.take_left
      · have holds : ∀ j u, (cs8 xs)[j]? = some u → w.drew.cell? ((⟨g, 0, none⟩ : Addr).add j) = some u := World.ownsRow.cells hown (g := g) rfl
        have hf := run_firstCells_some (P := Try.prog) w.drew i.size xs.length ⟨g, 0, none⟩ xs.length cap (cs8 xs) (by rw [cs8_length, hz1, Nat.mul_one]) holds
        have hr := Lib.run_append_grow_zeros (P := Try.prog) w 22 3 ty 5 i (.int .u8 0) .i64 .i64 Try.underlying22 Try.underlying3 hi hz0 (some ⟨g, 0, none⟩) xs.length cap (cs8 xs) hf n h0 (by omega) (by omega) (by omega) (by rw [hz2]; omega) (growslice_fits (by omega) (by rw [hz2]; omega))
        have hgr := grown cap (by omega) (Value.ownBlock (.slice (some ⟨g, 0, none⟩) xs.length cap)) (((cs8 xs).toArray ++ Builtin.zeroCells (Value.int .u8 0).cells n ++ Builtin.zeroCells (Value.int .u8 0).cells (grownCap w (xs.length + n) cap 5 - (xs.length + n)))) (by rw [Array.toList_append, Array.toList_append, zc n])
        exact ⟨_, _, hr, hgoal _ _ hgr.1, hgr.2⟩
end Go.Proofs.Ytdfaliadkpdfpaa
