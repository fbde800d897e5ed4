/- Texts of this claim, one behind the other: JShelf, JBu, JBw, JLo. -/
import Derived.Test.YtgpfognglpfmoaaGreatDoorProg
import Derived.Test.YtgpfognglpfmoaaGreatDoorZ11
import Derived.Test.YtgpfognglpfmoaaGreatDoorZ13
import Derived.Shelf.LaysM
import Derived.Shelf.Bytes.GrowSliceCatch
import Derived.Shelf.Bytes.GrowSlice
import Derived.Deep.QuietTactic
import Derived.BigQuiet
import Derived.RegionTactic
import Derived.Deep.RegionWith
import Derived.Laws.CopyRow
import Derived.Laws.IdiomCopy
set_option linter.unusedSimpArgs false
set_option linter.unusedVariables false
section
/-
  The library contracts that this dump uses, laid: bytes.growSlice.
-/
namespace Go.Proofs
open Go.Shelf
def Tryz.laysM324_ren : Go.Shelf.Ren := ⟨fun | 324 => 166 | n => n, fun | 20 => 20 | 4 => 4 | 75 => 131 | 0 => 0 | 80 => 219 | 9 => 9 | n => n, fun | 14 => 0 | n => n⟩
theorem Tryz.laysM324 : Go.Proofs.LaysM.n324 Tryz.prog Tryz.laysM324_ren := {
  mixed := by kernel_rfl
  f324 := Tryz.func166.trans (congrArg some (by kernel_rfl))
  t0 := Tryz.underlying0
  a0 := Tryz.isAgg0
  z0 := Tryz.sizeOf0
  v0 := Tryz.zeroValue0
  t4 := Tryz.underlying4
  a4 := Tryz.isAgg4
  z4 := Tryz.sizeOf4
  v4 := Tryz.zeroValue4
  t20 := Tryz.underlying20
  a20 := Tryz.isAgg20
  z20 := Tryz.sizeOf20
  v20 := Tryz.zeroValue20
  t75 := Tryz.underlying131
  a75 := Tryz.isAgg131
  z75 := Tryz.sizeOf131
  v75 := Tryz.zeroValue131
  g14 := by kernel_rfl
  t9 := Tryz.underlying9
  a9 := Tryz.isAgg9
  z9 := Tryz.sizeOf9
  v9 := Tryz.zeroValue9
  t80 := Tryz.underlying219
  a80 := Tryz.isAgg219
  z80 := Tryz.sizeOf219
  v80 := Tryz.zeroValue219
  i0 := by kernel_rfl
  i4 := by kernel_rfl
  i9 := by kernel_rfl
  i20 := by kernel_rfl
  i75 := by kernel_rfl
  i80 := by kernel_rfl
  m14 := by kernel_rfl }
theorem Tryz.growSlice_catch_idle (w : World) :
    CallsD Tryz.prog 166 #[] .returning w fun e u' w' => e = .returned (.tuple #[]) ∧ u' = .returning ∧ w' = w := Any.growSlice_catch_idle Tryz.laysM324 w
def Tryz.laysM290_ren : Go.Shelf.Ren := ⟨fun | 290 => 145 | 324 => 166 | n => n, fun | 37 => 31 | 3 => 3 | 0 => 0 | 4 => 4 | 20 => 20 | 75 => 131 | 5 => 5 | 80 => 219 | 9 => 9 | n => n, fun | 14 => 0 | n => n⟩
theorem Tryz.laysM290 : Go.Proofs.LaysM.n290 Tryz.prog Tryz.laysM290_ren := {
  mixed := by kernel_rfl
  f290 := Tryz.func145.trans (congrArg some (by kernel_rfl))
  f324 := Tryz.func166.trans (congrArg some (by kernel_rfl))
  t0 := Tryz.underlying0
  a0 := Tryz.isAgg0
  z0 := Tryz.sizeOf0
  v0 := Tryz.zeroValue0
  t3 := Tryz.underlying3
  a3 := Tryz.isAgg3
  z3 := Tryz.sizeOf3
  v3 := Tryz.zeroValue3
  t4 := Tryz.underlying4
  a4 := Tryz.isAgg4
  z4 := Tryz.sizeOf4
  v4 := Tryz.zeroValue4
  t20 := Tryz.underlying20
  a20 := Tryz.isAgg20
  z20 := Tryz.sizeOf20
  v20 := Tryz.zeroValue20
  t37 := Tryz.underlying31
  a37 := Tryz.isAgg31
  z37 := Tryz.sizeOf31
  v37 := Tryz.zeroValue31
  t75 := Tryz.underlying131
  a75 := Tryz.isAgg131
  z75 := Tryz.sizeOf131
  v75 := Tryz.zeroValue131
  g14 := by kernel_rfl
  t5 := Tryz.underlying5
  a5 := Tryz.isAgg5
  z5 := Tryz.sizeOf5
  v5 := Tryz.zeroValue5
  t9 := Tryz.underlying9
  a9 := Tryz.isAgg9
  z9 := Tryz.sizeOf9
  v9 := Tryz.zeroValue9
  t80 := Tryz.underlying219
  a80 := Tryz.isAgg219
  z80 := Tryz.sizeOf219
  v80 := Tryz.zeroValue219
  i0 := by kernel_rfl
  i3 := by kernel_rfl
  i4 := by kernel_rfl
  i5 := by kernel_rfl
  i9 := by kernel_rfl
  i20 := by kernel_rfl
  i37 := by kernel_rfl
  i75 := by kernel_rfl
  i80 := by kernel_rfl
  m14 := by kernel_rfl }
open Go.RowKit in
/-- bytes.growSlice: "growSlice grows b by n, preserving the original content of b.": OF A SLICE THAT LIES AT THE HEAD OF A ROW: a new row, number 'w.heap.size': it begins with b's l cells; its capacity has room for n more; whatever lay below is as it was. (LAID: no walk: one application.) -/
theorem Tryz.bytes_growSlice_row (g l c n : Nat) (cur : Array Value) (w : World) (hg : w.heap[g]? = some (.cells cur 5 (0, 0))) (hcs : cur.size = c) (hlc : l ≤ c) (hn : 1 ≤ n) (hlim : l + n ≤ 140737488355328) (hc2 : c ≤ 140737488355328) (h1 : ∀ v ∈ cur.toList.take l, v.oneCell' = true) :
    Calls Tryz.prog 145 #[.slice (some ⟨g, 0, none⟩) l c, .int .i64 n] w fun e w' => ∃ cap2 cells, e = .returned (.slice (some ⟨w.heap.size, 0, none⟩) l cap2) ∧ w'.heap[w.heap.size]? = some (.cells cells 5 (0, 0)) ∧
      cells.size = cap2 ∧ cells.toList.take l = cur.toList.take l ∧ l + n ≤ cap2 ∧ cap2 ≤ maxLen ∧ Below w.heap.size w w' := Any.bytes_growSlice_row Tryz.laysM290 g l c n cur w hg hcs hlc hn hlim hc2 h1
open Go.RowKit in
/-- .. OF THE NIL SLICE: a new row with room for n. (LAID: no walk: one application.) -/
theorem Tryz.bytes_growSlice_nil (n : Nat) (w : World) (hn : 1 ≤ n) (hlim : n ≤ 140737488355328) :
    Calls Tryz.prog 145 #[.slice none 0 0, .int .i64 n] w fun e w' => ∃ cap2 cells, e = .returned (.slice (some ⟨w.heap.size, 0, none⟩) 0 cap2) ∧ w'.heap[w.heap.size]? = some (.cells cells 5 (0, 0)) ∧
      cells.size = cap2 ∧ n ≤ cap2 ∧ cap2 ≤ maxLen ∧ Below w.heap.size w w' := Any.bytes_growSlice_nil Tryz.laysM290 n w hn hlim
end Go.Proofs
end
section
/- A log's block, and the buffer in it: Len, Bytes, tryGrowByReslice. -/
namespace Go.Proofs.YtgpfognglpfmoaaGreatDoor
set_option maxRecDepth 8192
set_option linter.unusedSimpArgs false
set_option linter.unusedVariables false
open Go.RowKit

/-- A log's cells: its epoch, its buffer (a row, nothing of it read, the last operation), how many records, the chain. -/
def lg (E : Int) (v : Value) (lr n : Int) (ch : List UInt8) : List Value := [.int .u64 E, v, .int .i64 0, .int .i8 lr, .int .i64 n] ++ cs8 ch
/-- The pointer to a log's buffer. -/
abbrev bufp (g : Nat) : Value := .pointer (some ⟨g, 1, none⟩)

theorem bl_drewN (w : World) (k : Nat) : Below w.heap.size w (w.drewN k) := ⟨rfl, rfl, rfl, Nat.le_refl _, fun _ _ => rfl⟩

section
variable {w : World} {g : Nat} {E lr n : Int} {v : Value} {ch : List UInt8} {A : Option Addr} {m c : Nat}

theorem BLen_any (h : Bk w g (lg E (.slice A m c) lr n ch)) (hm : m ≤ 1073741824) :
    Calls Tryz.prog 88 #[bufp g] w fun e w' => e = .returned (.int .i64 (m : Int)) ∧ ∃ k, w' = w.drewN k := by
  have c1 : w.cell? ⟨g, 1, none⟩ = some (.slice A m c) := h.cell rfl
  have c2 : w.cell? ⟨g, 2, none⟩ = some (.int .i64 0) := h.cell rfl
  have hwm : IntKind.i64.wrap ((m : Int) - 0) = m := by rw [IntKind.wrap_i64]; omega
  have hwm2 : IntKind.i64.wrap ((m : Int)) = m := by rw [IntKind.wrap_i64]; omega
  clear h
  go_enter Tryz.func88, Tryz.ntmps88
  go_wp2
  go_quiet (fail)
  go_wp2
  go_ret
  exact ⟨rfl, _, rfl⟩

theorem BBytes_any (h : Bk w g (lg E (.slice A m c) lr n ch)) (hmc : m ≤ c) (hc : c ≤ 9223372036854775807) :
    Calls Tryz.prog 95 #[bufp g] w fun e w' => e = .returned (.slice A m c) ∧ ∃ k, w' = w.drewN k := by
  have c1 : w.cell? ⟨g, 1, none⟩ = some (.slice A m c) := h.cell rfl
  have c2 : w.cell? ⟨g, 2, none⟩ = some (.int .i64 0) := h.cell rfl
  clear h
  have hsl : ∀ W, (Instr.sliceAt 31 (.slice A m c) (some (.int .i64 0)) none none).run Tryz.prog W = .ok (.slice A m c) W := by
    intro W
    have h0 : (if c = 0 then A else A.map (·.add 0)) = A := by
      split
      · rfl
      · cases A with
        | none => rfl
        | some a => simp [Addr.add]
    have h1 : (0 : Int) ≤ (m : Int) := by omega
    simp [Instr.sliceAt, Instr.slice, run_underlying Tryz.underlying31, Instr.sliceBounds, run_sliceBound, h1, Tryz.sizeOf5, h0, go_sem]
  go_enter Tryz.func95, Tryz.ntmps95
  go_wp2
  go_quiet (fail)
  go_wp2
  go_ret
  exact ⟨rfl, _, rfl⟩

theorem BTry_room (h : Bk w g (lg E (.slice A m c) lr n ch)) (hmc : m ≤ c) (hc : c ≤ 9223372036854775807) (k : Nat) (hk : k ≤ c - m) :
    Calls Tryz.prog 122 #[bufp g, .int .i64 (k : Int)] w fun e w' => e = .returned (.tuple #[.int .i64 (m : Int), .bool true]) ∧ w' = w.setCell ⟨g, 1, none⟩ (.slice A (m + k) c) := by
  have c1 : w.cell? ⟨g, 1, none⟩ = some (.slice A m c) := h.cell rfl
  have f1 : w.frozen? ⟨g, 1, none⟩ = false := h.frozen 1
  clear h
  go_enter Tryz.func122, Tryz.ntmps122
  go_wp2
  go_ret2
  exact ⟨rfl, rfl⟩
theorem BTry_none (h : Bk w g (lg E (.slice A m c) lr n ch)) (hmc : m ≤ c) (hc : c ≤ 9223372036854775807) (k : Nat) (hk : c - m < k) :
    Calls Tryz.prog 122 #[bufp g, .int .i64 (k : Int)] w fun e w' => e = .returned (.tuple #[.int .i64 0, .bool false]) ∧ w' = w := by
  have c1 : w.cell? ⟨g, 1, none⟩ = some (.slice A m c) := h.cell rfl
  clear h
  go_enter Tryz.func122, Tryz.ntmps122
  go_wp2
  go_ret2
  exact ⟨rfl, rfl⟩

/-- The buffer has grown by k: a new row, number b, that begins with the cells xs; its room. -/
structure Grew (w w' : World) (g : Nat) (E lr n : Int) (ch : List UInt8) (xs : List UInt8) (k b cap : Nat) (cur : Array Value) : Prop where
  bk : Bk w' g (lg E (.slice (some ⟨b, 0, none⟩) (xs.length + k) cap) lr n ch)
  row : w'.heap[b]? = some (.cells cur 5 (0, 0))
  new : w.heap.size ≤ b
  size : cur.size = cap
  head : cur.toList.take xs.length = cs8 xs
  room : xs.length + k ≤ cap
  most : cap ≤ maxLen
  kp : Kp (· = g) w w'

theorem kp_g_alloc (W : World) (g : Nat) (o : Nat) (u : Value) (O : Obj) : Kp (· = g) W ((W.setCell ⟨g, o, none⟩ u).alloc O) :=
  (Kp.stays _).trans (Kp.of_only (Only.set W o u)) (Kp.of_old (bl_alloc (bl0 _) O))
theorem kp_drewN (may : Nat → Prop) (w : World) (k : Nat) : Kp may w (w.drewN k) := ⟨rfl, rfl, rfl, Nat.le_refl _, fun _ _ _ => rfl⟩

theorem set_other (W : World) (g o k : Nat) (u : Value) (h : k ≠ g) : (W.setCell ⟨g, o, none⟩ u).heap[k]? = W.heap[k]? := heap_setCell_other W ⟨g, o, none⟩ k u h
/-- The buffer's row is a new one: what grow leaves. -/
theorem grew_end {w2 : World} {v0 : Value} {xs : List UInt8} {k N cap : Nat} {cur : Array Value} (hb : Bk w2 g (lg E v0 lr n ch)) (hN : w2.heap[N]? = some (.cells cur 5 (0, 0))) (hNg : N ≠ g) (hnew : w.heap.size ≤ N) (hs : cur.size = cap)
    (hh : cur.toList.take xs.length = cs8 xs) (hr : xs.length + k ≤ cap) (hm : cap ≤ maxLen) (hk : Kp (· = g) w w2) (v1 : Value) :
    Grew w (((w2.setCell ⟨g, 1, none⟩ v1).setCell ⟨g, 2, none⟩ (.int .i64 0)).setCell ⟨g, 1, none⟩ (.slice (some ⟨N, 0, none⟩) (xs.length + k) cap)) g E lr n ch xs k N cap cur :=
  ⟨((hb.setCell 1 v1).setCell 2 (.int .i64 0)).setCell 1 _, by rw [set_other _ _ _ _ _ hNg, set_other _ _ _ _ _ hNg, set_other _ _ _ _ _ hNg]; exact hN, hnew, hs, hh, hr, hm,
    (Kp.stays _).trans ((Kp.stays _).trans ((Kp.stays _).trans hk (Kp.of_only (Only.set _ 1 _))) (Kp.of_only (Only.set _ 2 _))) (Kp.of_only (Only.set _ 1 _))⟩

set_option maxHeartbeats 1600000 in
theorem BGrow_small (h : Bk w g (lg E (.slice none 0 0) lr n ch)) (k : Nat) (hk : 1 ≤ k) (h64 : k ≤ 64) :
    Calls Tryz.prog 123 #[bufp g, .int .i64 (k : Int)] w fun e w' => e = .returned (.int .i64 0) ∧ ∃ b cap cur, Grew w w' g E lr n ch [] k b cap cur := by
  obtain ⟨i0, hi, hz0, hz1, hz2⟩ := info_parts info_u8
  obtain ⟨M, hM⟩ : ∃ M, M = madeCells (Value.int .u8 0).cells ((64 : Int).toNat * i0.size) := ⟨_, rfl⟩
  have hMs : M.size = 64 := by rw [hM, size_madeCells, hz1]; rfl
  have hmk : ∀ W : World, (Instr.makeSlice 31 (.int .i64 (k : Int)) (.int .i64 64)).run Tryz.prog W = .ok (.slice (some ⟨W.heap.size, 0, none⟩) k 64) (W.alloc (.cells M 5)) := fun W => by
    have h := run_makeSlice (P := Tryz.prog) W 31 5 i0 (.int .u8 0) Tryz.underlying31 hi hz0 .i64 .i64 (k : Int) 64 (by omega) (by omega) (by rw [hz1]; decide) (by rw [hz2]; decide) (by decide)
    rw [← hM] at h
    simpa using h
  clear hM hi hz0 hz1 hz2
  have hnil : ∀ W, (binOp .eql 31 (.slice none 0 0) (.slice none 0 0)).run Tryz.prog W = .ok (.bool true) W := fun W => Lib.run_eql_slice_nil W 31 5 none 0 0 0 0 Tryz.underlying31
  have HH := Lib.hid h
  go_enter Tryz.func123, Tryz.ntmps123
  go_wp2_with fail
  refine (BLen_any HH.out (by omega)).mono ?_
  rintro e W0 ⟨rfl, q, hW0⟩
  have H0 : Hid (Bk W0 g (lg E (.slice none 0 0) lr n ch)) := Lib.hid (by rw [hW0]; exact HH.out)
  have HK := Lib.hid (show Kp (· = g) w W0 by rw [hW0]; exact kp_drewN _ _ _)
  clear hW0 HH h
  have c1 : W0.cell? ⟨g, 1, none⟩ = some (.slice none 0 0) := H0.out.cell rfl
  have c2 : W0.cell? ⟨g, 2, none⟩ = some (.int .i64 0) := H0.out.cell rfl
  have c1a : ∀ o, (W0.alloc o).cell? ⟨g, 1, none⟩ = some (.slice none 0 0) := fun o => (H0.out.old o).cell rfl
  have f1a : ∀ o, (W0.alloc o).frozen? ⟨g, 1, none⟩ = false := fun o => (H0.out.old o).frozen 1
  go_wp2_with ((with_reducible refine (BTry_none H0.out (by omega) (by omega) k (by omega)).mono ?_); rintro e w' ⟨rfl, rfl⟩)
  go_ret
  have hN : g ≠ w'.heap.size := by have := H0.out.lt; omega
  refine ⟨rfl, w'.heap.size, 64, M, ⟨by rw [List.length_nil, Nat.zero_add]; exact (H0.out.old _).setCell 1 _, ?_, HK.out.size, hMs, rfl, by simpa using h64, by unfold maxLen; omega, (Kp.stays _).trans HK.out ((Kp.stays _).trans (Kp.of_old (bl_alloc (bl0 _) _)) (Kp.of_only (Only.set _ 1 _)))⟩⟩
  rw [set_other _ _ _ _ _ (Ne.symm hN)]
  exact heap_alloc_new _ _

set_option maxHeartbeats 3200000 in
theorem BGrow_big (h : Bk w g (lg E (.slice none 0 0) lr n ch)) (k : Nat) (h64 : 64 < k) (hk : k ≤ 1073741824) :
    Calls Tryz.prog 123 #[bufp g, .int .i64 (k : Int)] w fun e w' => e = .returned (.int .i64 0) ∧ ∃ b cap cur, Grew w w' g E lr n ch [] k b cap cur := by
  have hnil : ∀ W, (binOp .eql 31 (.slice none 0 0) (.slice none 0 0)).run Tryz.prog W = .ok (.bool true) W := fun W => Lib.run_eql_slice_nil W 31 5 none 0 0 0 0 Tryz.underlying31
  have HH := Lib.hid h
  go_enter Tryz.func123, Tryz.ntmps123
  go_wp2_with fail
  refine (BLen_any HH.out (by omega)).mono ?_
  rintro e W0 ⟨rfl, q, hW0⟩
  have H0 : Hid (Bk W0 g (lg E (.slice none 0 0) lr n ch)) := Lib.hid (by rw [hW0]; exact HH.out)
  have HK := Lib.hid (show Kp (· = g) w W0 by rw [hW0]; exact kp_drewN _ _ _)
  clear hW0 HH h
  have c1 : W0.cell? ⟨g, 1, none⟩ = some (.slice none 0 0) := H0.out.cell rfl
  have c2 : W0.cell? ⟨g, 2, none⟩ = some (.int .i64 0) := H0.out.cell rfl
  go_wp2_with ((with_reducible refine (BTry_none H0.out (by omega) (by omega) k (by omega)).mono ?_); rintro e w' ⟨rfl, rfl⟩)
  have hwn : IntKind.i64.wrap (k : Int) = k := by rw [IntKind.wrap_i64]; omega
  go_region_with (
      go_at_call 145
      refine (Tryz.bytes_growSlice_nil k _ (by omega) (by omega)).mono ?_
      rintro e w2 ⟨cap2, cells, rfl, hN, hcsz, hcap2, hcm2, hbel⟩
      have H2 := Lib.hid (H0.out.drew.keep hbel)
      have d0 : w2.cell? ⟨g, 1, none⟩ = some (.slice none 0 0) := H2.out.cell rfl
      have d1 : w2.cell? ⟨g, 2, none⟩ = some (.int .i64 0) := H2.out.cell rfl
      have e0 : w2.frozen? ⟨g, 1, none⟩ = false := H2.out.frozen 1
      have e1 : w2.frozen? ⟨g, 2, none⟩ = false := H2.out.frozen 2)
  all_goals (
    go_wp2
    go_ret
    have hNg : w'.heap.size ≠ g := by have := H0.out.lt; omega
    have hk2 : Kp (· = g) w w2 := (Kp.stays _).trans HK.out (show Kp (· = g) w' w2 from ⟨hbel.os, hbel.tape, hbel.output, hbel.size, fun k hk _ => hbel.block k hk⟩)
    have hres := grew_end (w := w) (xs := []) (k := k) H2.out hN hNg HK.out.size hcsz rfl (by simpa using hcap2) hcm2 hk2 (.slice (some ⟨w'.heap.size, 0, none⟩) 0 cap2)
    rw [List.length_nil, Nat.zero_add] at hres
    exact ⟨rfl, _, _, _, hres⟩)

set_option maxHeartbeats 3200000 in
theorem BGrow_row {b cap k : Nat} {cur : Array Value} {xs : List UInt8} (h : Bk w g (lg E (.slice (some ⟨b, 0, none⟩) xs.length cap) lr n ch)) (hrow : w.heap[b]? = some (.cells cur 5 (0, 0))) (hcs : cur.size = cap) (hcm : cap ≤ maxLen)
    (hhd : cur.toList.take xs.length = cs8 xs) (hl0 : 0 < xs.length) (hlc : xs.length ≤ cap) (hroom : cap - xs.length < k) (hlim : xs.length + k ≤ 1073741824) :
    Calls Tryz.prog 123 #[bufp g, .int .i64 (k : Int)] w fun e w' => e = .returned (.int .i64 (xs.length : Int)) ∧ ∃ b cap cur, Grew w w' g E lr n ch xs k b cap cur := by
  have hnil : ∀ W, (binOp .eql 31 (.slice (some ⟨b, 0, none⟩) xs.length cap) (.slice none 0 0)).run Tryz.prog W = .ok (.bool false) W := fun W => Lib.run_eql_slice_nil W 31 5 (some ⟨b, 0, none⟩) _ _ 0 0 Tryz.underlying31
  have HH := Lib.hid h
  have HR := Lib.hid hrow
  have HD := Lib.hid hhd
  have HO := Lib.hid (show ∀ v ∈ cur.toList.take xs.length, v.oneCell' = true by rw [hhd]; exact cs8_one xs)
  have HCS := Lib.hid hcs
  have HCM := Lib.hid hcm
  clear hrow hhd hcs
  generalize hL : xs.length = L at *
  have HL := Lib.hid hL
  clear hL
  go_enter Tryz.func123, Tryz.ntmps123
  go_wp2_with fail
  refine (BLen_any HH.out (by omega)).mono ?_
  rintro e W0 ⟨rfl, q, hW0⟩
  have H0 : Hid (Bk W0 g (lg E (.slice (some ⟨b, 0, none⟩) L cap) lr n ch)) := Lib.hid (by rw [hW0]; exact HH.out)
  have HK := Lib.hid (show Kp (· = g) w W0 by rw [hW0]; exact kp_drewN _ _ _)
  have HR0 : Hid (W0.heap[b]? = some (.cells cur 5 (0, 0))) := Lib.hid (by rw [hW0]; exact HR.out)
  clear hW0 HH h HR
  have c1 : W0.cell? ⟨g, 1, none⟩ = some (.slice (some ⟨b, 0, none⟩) L cap) := H0.out.cell rfl
  have c2 : W0.cell? ⟨g, 2, none⟩ = some (.int .i64 0) := H0.out.cell rfl
  unfold maxLen at hcm
  go_wp2_with ((with_reducible refine (BTry_none H0.out (by omega) (by omega) k (by omega)).mono ?_); rintro e w' ⟨rfl, rfl⟩)
  have hwn : IntKind.i64.wrap (k : Int) = k := by rw [IntKind.wrap_i64]; omega
  go_region_with (
      go_at_call 145
      refine (Tryz.bytes_growSlice_row b L cap k cur _ ?_ HCS.out (by omega) (by omega) (by omega) (by omega) HO.out).mono ?_
      exact HR0.out
      rintro e w2 ⟨cap2, cells, rfl, hN, hcsz, htk, hcap2, hcm2, hbel⟩
      have H2 := Lib.hid (H0.out.drew.keep hbel)
      have d0 : w2.cell? ⟨g, 1, none⟩ = some (.slice (some ⟨b, 0, none⟩) L cap) := H2.out.cell rfl
      have d1 : w2.cell? ⟨g, 2, none⟩ = some (.int .i64 0) := H2.out.cell rfl
      have e0 : w2.frozen? ⟨g, 1, none⟩ = false := H2.out.frozen 1
      have e1 : w2.frozen? ⟨g, 2, none⟩ = false := H2.out.frozen 2)
  all_goals (
    go_wp2
    go_ret
    have hNg : w'.heap.size ≠ g := by have := H0.out.lt; omega
    have hk2 : Kp (· = g) w w2 := (Kp.stays _).trans HK.out (show Kp (· = g) w' w2 from ⟨hbel.os, hbel.tape, hbel.output, hbel.size, fun k hk _ => hbel.block k hk⟩)
    have hL := HL.out
    subst hL
    have hres := grew_end (w := w) (xs := xs) (k := k) H2.out hN hNg HK.out.size hcsz (htk.trans HD.out) hcap2 hcm2 hk2 (.slice (some ⟨w'.heap.size, 0, none⟩) xs.length cap2)
    exact ⟨rfl, _, _, _, hres⟩)
end
end Go.Proofs.YtgpfognglpfmoaaGreatDoor
end
section
/- A log's buffer: Write. -/
namespace Go.Proofs.YtgpfognglpfmoaaGreatDoor
set_option maxRecDepth 8192
set_option linter.unusedSimpArgs false
set_option linter.unusedVariables false
open Go.RowKit

/-- The bytes l have been put behind the buffer's bytes. -/
def Wrote (w : World) (g : Nat) (E n : Int) (ch : List UInt8) (base : Nat) (v : Value) (l : List UInt8) (m : Nat) (e : Ending) (w' : World) : Prop :=
  ∃ v', e = .returned (.tuple #[.int .i64 (m : Int), .nilIface]) ∧ Bk w' g (lg E v' 0 n ch) ∧ Ow w' base v' l ∧ v'.ownBlock ≠ some g ∧ (l = [] → v' = .slice none 0 0) ∧
    (v'.ownBlock = v.ownBlock ∨ ∃ k, v'.ownBlock = some k ∧ w.heap.size ≤ k) ∧ Kp (may g v) w w'

section
variable {w : World} {g : Nat} {E lr n : Int} {v : Value} {ch : List UInt8} {A : Option Addr} {m c base : Nat} {xs l : List UInt8}
theorem size5 : (Tryz.prog.info? 5).map (·.size) = some 1 := by
  obtain ⟨i0, hi, -, hz1, -⟩ := info_parts info_u8
  rw [hi]; simp [hz1]

/-- The copy behind the bytes that were there. -/
theorem wrote_end {w W1 : World} {b cap L : Nat} {cur : Array Value} (hb : Bk W1 g (lg E (.slice (some ⟨b, 0, none⟩) (L + m) cap) 0 n ch)) (hrow : W1.heap[b]? = some (.cells cur 5 (0, 0))) (hcs : cur.size = cap) (hcm : cap ≤ maxLen)
    (hL : xs.length = L) (hhd : cur.toList.take L = cs8 xs) (hroom : L + m ≤ cap) (hl : l.length = m) (hbg : b ≠ g) (hbase : base ≤ b) (hm : 1 ≤ m) (hnew : v.ownBlock = some b ∨ w.heap.size ≤ b) (hk : Kp (may g v) w W1) :
    Wrote w g E n ch base v (xs ++ l) m (.returned (.tuple #[.int .i64 (m : Int), .nilIface])) (W1.setRow b (cur.toList.take L ++ cs8 l ++ cur.toList.drop (L + m)).toArray) := by
  have hlen : (xs ++ l).length = L + m := by rw [List.length_append, hL, hl]
  have htl : (cur.toList.take L).length = L := by rw [List.length_take, Array.length_toList]; omega
  refine ⟨_, rfl, hb.other (Ne.symm hbg) _, ⟨?_, .inr ⟨b, cap, _, ?_, hbase, setRow_heap W1 b cur _ 5 (0, 0) hrow, by rw [hlen]; exact hroom, hcm, ?_, ?_⟩⟩, ?_, ?_, ?_, ?_⟩
  · rw [cs8_length, Nat.mul_one]
  · rw [hlen]
  · simp only [List.size_toArray, List.length_append, htl, cs8_length, List.length_drop, Array.length_toList]; omega
  · rw [hlen, Nat.mul_one, cs8_append, List.take_append_of_le_length (by rw [List.length_append, htl, cs8_length, hl]; exact Nat.le_refl _), List.take_of_length_le (by rw [List.length_append, htl, cs8_length, hl]; exact Nat.le_refl _), hhd]
  · simpa [Value.ownBlock] using hbg
  · intro he
    have := congrArg List.length he
    rw [hlen, List.length_nil] at this
    omega
  · rcases hnew with h | h
    · exact .inl h.symm
    · exact .inr ⟨b, rfl, h⟩
  · refine ⟨hk.os, hk.tape, hk.output, Nat.le_trans hk.size (by simp [World.setRow]), fun k hk2 hn => (setRow_other W1 b k _ (fun e => ?_)).trans (hk.block k hk2 hn)⟩
    rcases hnew with h | h
    · exact hn (.inr (by rw [h, e]))
    · omega

set_option maxHeartbeats 1600000 in
theorem BWrite_none (h : Bk w g (lg E v lr n ch)) (ho : Ow w base v xs) (hne : v.ownBlock ≠ some g) (hv : xs = [] → v = .slice none 0 0) (hlim : xs.length ≤ 1073741824) :
    Calls Tryz.prog 91 #[bufp g, .slice A 0 c] w (Wrote w g E n ch base v (xs ++ []) 0) := by
  rw [List.append_nil]
  obtain ⟨B, cap, rfl, hB⟩ : ∃ B cap, v = .slice B xs.length cap ∧ xs.length ≤ cap ∧ cap ≤ maxLen := by
    rcases ho.2 with ⟨rfl, h0⟩ | ⟨b, cap, cur, rfl, _, _, h1, h2, _⟩
    · exact ⟨none, 0, by rw [h0], by omega, by unfold maxLen; omega⟩
    · exact ⟨_, _, rfl, h1, h2⟩
  obtain ⟨hB1, hB2⟩ := hB
  have hc0 : ∀ d dLen dCap W, (Builtin.copy_ #[31, 31] 3 #[.slice d dLen dCap, .slice A 0 c]).run Tryz.prog W = .ok (goInt 0) W := fun d dLen dCap W =>
    run_copy_none W 31 31 3 5 d A dLen dCap 0 c Tryz.underlying31 size5 (by simp)
  have H1 : Hid (Bk (w.setCell ⟨g, 3, none⟩ (.int .i8 0)) g (lg E (.slice B xs.length cap) 0 n ch)) := Lib.hid (h.setCell 3 _)
  have HH := Lib.hid h
  have c3 : w.cell? ⟨g, 3, none⟩ = some (.int .i8 lr) := h.cell rfl
  have f3 : w.frozen? ⟨g, 3, none⟩ = false := h.frozen 3
  have HO := Lib.hid ho
  have HV := Lib.hid hv
  have HN := Lib.hid hne
  clear h ho hv hne
  generalize hL : xs.length = L at *
  have HL := Lib.hid hL
  clear hL
  unfold maxLen at hB2
  go_enter Tryz.func91, Tryz.ntmps91
  go_wp2_with fail
  refine (BTry_room H1.out hB1 hB2 0 (by omega)).mono ?_
  rintro e w' ⟨rfl, rfl⟩
  have H2 : Hid (Bk ((w.setCell ⟨g, 3, none⟩ (.int .i8 0)).setCell ⟨g, 1, none⟩ (.slice B (L + 0) cap)) g (lg E (.slice B L cap) 0 n ch)) := Lib.hid (H1.out.setCell 1 _)
  have HK := Lib.hid ((Kp.stays _).trans (Kp.of_cell (g := g) (v := .slice B L cap) (w := w) 3 (.int .i8 0)) (Kp.of_cell (g := g) (v := .slice B L cap) 1 (.slice B (L + 0) cap)))
  have HO2 := Lib.hid (World.ownsRow.kept (World.ownsRow.kept HO.out (Only.set (g := g) w 3 (.int .i8 0)) (.inr HN.out)) (Only.set (g := g) (w.setCell ⟨g, 3, none⟩ (.int .i8 0)) 1 (.slice B (L + 0) cap)) (.inr HN.out))
  clear H1 HH HO c3 f3
  generalize (w.setCell ⟨g, 3, none⟩ (.int .i8 0)).setCell ⟨g, 1, none⟩ (.slice B (L + 0) cap) = W2 at *
  have c1 : W2.cell? ⟨g, 1, none⟩ = some (.slice B L cap) := H2.out.cell rfl
  go_wp2
  all_goals (
    go_ret2
    first
      | exact ⟨_, rfl, H2.out, HO2.out, HN.out, HV.out, .inl rfl, HK.out⟩
      | (obtain rfl : cap = L := by assumption
         exact ⟨_, rfl, H2.out, HO2.out, HN.out, HV.out, .inl rfl, HK.out⟩))

set_option maxHeartbeats 3200000 in
theorem BWrite_some (h : Bk w g (lg E v lr n ch)) (ho : Ow w base v xs) (hne : v.ownBlock ≠ some g) (hv : xs = [] → v = .slice none 0 0) (hr : Rd w w.heap.size A m c l) (hA : ∀ ad, A = some ad → ad.block ≠ g ∧ v.ownBlock ≠ some ad.block)
    (hm : 1 ≤ m) (hlim : xs.length + m ≤ 1073741824) (hbase : base ≤ w.heap.size) (hg : base ≤ g) :
    Calls Tryz.prog 91 #[bufp g, .slice A m c] w (Wrote w g E n ch base v (xs ++ l) m) := by
  have hl := hr.len
  obtain ⟨ad, rfl, hadt, hcell⟩ := hr.2.2 (by omega)
  obtain ⟨hA1, hA2⟩ := hA ad rfl
  have HC := Lib.hid hcell
  have HLm := Lib.hid hl
  have H1 : Hid (Bk (w.setCell ⟨g, 3, none⟩ (.int .i8 0)) g (lg E v 0 n ch)) := Lib.hid (h.setCell 3 _)
  have c3 : w.cell? ⟨g, 3, none⟩ = some (.int .i8 lr) := h.cell rfl
  have f3 : w.frozen? ⟨g, 3, none⟩ = false := h.frozen 3
  have HO1 := Lib.hid (World.ownsRow.kept ho (Only.set (g := g) w 3 (.int .i8 0)) (.inr hne))
  have HK1 := Lib.hid (Kp.of_cell (g := g) (v := v) (w := w) 3 (.int .i8 0))
  have HS1 : Hid ((w.setCell ⟨g, 3, none⟩ (.int .i8 0)).heap.size = w.heap.size) := Lib.hid (by simp [World.setCell])
  have HG := Lib.hid h.lt
  -- What all ways come to: the row is there, with room for l behind xs.
  have fin : Hid (∀ (W1 : World) (L b cap : Nat) (cur : Array Value), xs.length = L → Bk W1 g (lg E (.slice (some ⟨b, 0, none⟩) (L + m) cap) 0 n ch) → W1.heap[b]? = some (.cells cur 5 (0, 0)) → cur.size = cap → cap ≤ maxLen → cur.toList.take L = cs8 xs →
      L + m ≤ cap → b ≠ g → base ≤ b → (v.ownBlock = some b ∨ w.heap.size ≤ b) → Kp (may g v) w W1 → ad.block ≠ b →
      W1.cell? ⟨g, 1, none⟩ = some (.slice (some ⟨b, 0, none⟩) (L + m) cap) ∧ (Builtin.copy_ #[31, 31] 3 #[.slice (some ⟨b, L, none⟩) m (cap - L), .slice (some ad) m c]).run Tryz.prog W1 =
        .ok (goInt m) (W1.setRow b (cur.toList.take L ++ cs8 l ++ cur.toList.drop (L + m)).toArray) ∧
      Wrote w g E n ch base v (xs ++ l) m (.returned (.tuple #[.int .i64 (m : Int), .nilIface])) (W1.setRow b (cur.toList.take L ++ cs8 l ++ cur.toList.drop (L + m)).toArray)) := Lib.hid (by
    intro W1 L b cap cur hL hb hrow hcs hcm hhd hroom hbg hbb hnew hk hadb
    have hsrc : ∀ j u, (cs8 l)[j]? = some u → W1.cell? (ad.add j) = some u := fun j u hj => by
      simp only [cs8, List.getElem?_map, Option.map_eq_some_iff] at hj
      obtain ⟨x, hx, rfl⟩ := hj
      exact (hk.cell (by rw [add_block]; exact hadt) (by rw [add_block]; exact fun e => e.elim hA1 hA2)).trans (HC.out j x hx)
    have hcp := run_copy_row (P := Tryz.prog) W1 31 31 3 5 b L m (cap - L) ad m c cur 5 (cs8 l) Tryz.underlying31 size5 hrow (by rw [cs8_length, HLm.out]; exact (Nat.min_self m).symm) hsrc (by rw [cs8_length, HLm.out]; omega) (cs8_one l)
    rw [cs8_length, HLm.out] at hcp
    exact ⟨hb.cell rfl, hcp, wrote_end hb hrow hcs hcm hL hhd hroom HLm.out hbg hbb hm hnew hk⟩)
  rcases ho.2 with ⟨e0, h0⟩ | ⟨b, cap, cur, ev, hbb, hrow, h1, h2, h3, h4⟩
  · subst e0
    obtain rfl : xs = [] := List.eq_nil_of_length_eq_zero h0
    clear hv ho h hr hA hcell h0
    by_cases h64 : m ≤ 64
    all_goals
      go_enter Tryz.func91, Tryz.ntmps91
      go_wp2_with fail
      refine (BTry_none H1.out (by omega) (by omega) m (by omega)).mono ?_
      rintro e w' ⟨rfl, rfl⟩
      go_wp2_with fail
      first
        | refine (BGrow_small H1.out m hm h64).mono ?_
        | refine (BGrow_big H1.out m (by omega) (by simpa using hlim)).mono ?_
      rintro e W1 ⟨rfl, b, cap, cur, G⟩
      have hgw := HG.out
      have hnb : w.heap.size ≤ b := by have := G.new; rw [HS1.out] at this; exact this
      obtain ⟨c1, hcp, hW⟩ := fin.out W1 0 b cap cur rfl G.bk G.row G.size G.most G.head G.room (by omega) (by omega) (.inr hnb) (HK1.out.via G.kp (fun j _ e => .inl e)) (by omega)
      simp only [Nat.zero_add, Nat.sub_zero] at c1 hcp hW
      have HW := Lib.hid hW
      have hcm := G.most
      unfold maxLen at hcm
      have hrm : m ≤ cap := by simpa using G.room
      clear G hW fin H1 HC HK1 HO1
      go_wp2
      all_goals (
        go_ret2
        exact HW.out)
  · subst ev
    have hL0 : 0 < xs.length := by
      rcases Nat.eq_zero_or_pos xs.length with h0 | h0
      · have := hv (List.eq_nil_of_length_eq_zero h0)
        cases this
      · exact h0
    have hbg : b ≠ g := fun e => hne (by rw [e]; rfl)
    have hadb : ad.block ≠ b := fun e => hA2 (by rw [e]; rfl)
    have hrow1 : (w.setCell ⟨g, 3, none⟩ (.int .i8 0)).heap[b]? = some (.cells cur 5 (0, 0)) := (set_other _ _ _ _ _ hbg).trans hrow
    have hgw := HG.out
    have hbw := (Array.getElem?_eq_some_iff.1 hrow).1
    rw [Nat.mul_one] at h3 h4
    generalize hL : xs.length = L at *
    have HL := Lib.hid hL
    clear hL hv ho h hr hA hcell
    have H2 := Lib.hid h2
    unfold maxLen at h2
    by_cases hroom : m ≤ cap - L
    · go_enter Tryz.func91, Tryz.ntmps91
      go_wp2_with fail
      refine (BTry_room H1.out h1 h2 m hroom).mono ?_
      rintro e w' ⟨rfl, rfl⟩
      obtain ⟨c1, hcp, hW⟩ := fin.out _ L b cap cur rfl (H1.out.setCell 1 _) ((set_other _ _ _ _ _ hbg).trans hrow1) h3 H2.out h4 (by omega) hbg hbb (.inl rfl) ((Kp.stays _).trans HK1.out (Kp.of_cell 1 _)) hadb
      rw [List.append_assoc] at hcp hW
      have HW := Lib.hid hW
      clear hW fin H1 HC HK1 HO1 hrow1 h4 hrow
      generalize (w.setCell ⟨g, 3, none⟩ (.int .i8 0)).setCell ⟨g, 1, none⟩ (.slice (some ⟨b, 0, none⟩) (L + m) cap) = W1 at *
      have hne2 : ¬ cap = L := by omega
      go_wp2
      all_goals (
        go_ret2
        exact HW.out)
    · go_enter Tryz.func91, Tryz.ntmps91
      go_wp2_with fail
      refine (BTry_none H1.out h1 h2 m (by omega)).mono ?_
      rintro e w' ⟨rfl, rfl⟩
      go_wp2_with fail
      have hxl := HL.out
      subst hxl
      refine (BGrow_row H1.out hrow1 h3 H2.out h4 hL0 h1 (by omega) hlim).mono ?_
      rintro e W1 ⟨rfl, b2, cap2, cur2, G⟩
      have hnb : w.heap.size ≤ b2 := by have := G.new; rw [HS1.out] at this; exact this
      obtain ⟨c1, hcp, hW⟩ := fin.out W1 xs.length b2 cap2 cur2 rfl G.bk G.row G.size G.most G.head G.room (by omega) (by omega) (.inr hnb) (HK1.out.via G.kp (fun j _ e => .inl e)) (by omega)
      rw [List.append_assoc] at hcp hW
      have HW := Lib.hid hW
      have hcm := G.most
      unfold maxLen at hcm
      have hrm := G.room
      clear G hW fin H1 HC HK1 HO1 hrow1 h4 hrow
      generalize xs.length = L at *
      have hne2 : ¬ cap2 = L := by omega
      go_wp2
      all_goals (
        go_ret2
        exact HW.out)

theorem BWrite_any (h : Bk w g (lg E v lr n ch)) (ho : Ow w base v xs) (hne : v.ownBlock ≠ some g) (hv : xs = [] → v = .slice none 0 0) (hr : Rd w w.heap.size A m c l) (hA : ∀ ad, A = some ad → ad.block ≠ g ∧ v.ownBlock ≠ some ad.block)
    (hlim : xs.length + m ≤ 1073741824) (hbase : base ≤ w.heap.size) (hg : base ≤ g) :
    Calls Tryz.prog 91 #[bufp g, .slice A m c] w (Wrote w g E n ch base v (xs ++ l) m) := by
  rcases Nat.eq_zero_or_pos m with h0 | h0
  · subst h0
    obtain rfl : l = [] := List.eq_nil_of_length_eq_zero hr.len
    exact BWrite_none h ho hne hv (by omega)
  · exact BWrite_some h ho hne hv hr hA h0 hlim hbase hg
end
end Go.Proofs.YtgpfognglpfmoaaGreatDoor
end
section
/- Places, sectors of heads and areas; a log: made anew, its end, its tail. -/
namespace Go.Proofs.YtgpfognglpfmoaaGreatDoor
set_option maxRecDepth 8192
set_option linter.unusedSimpArgs false
set_option linter.unusedVariables false
open Go.RowKit

/-- An epoch's first chain. -/
def fstC (E : Nat) : List UInt8 := sumS (OwordB E 8)
theorem fstC_length (E : Nat) : (fstC E).length = 32 := sumS_length' _

theorem headSector_any (E : Nat) (hE : E ≤ 9223372036854775807) (w : World) : Calls Tryz.prog 84 #[.int .u64 (E : Int)] w fun e w' => e = .returned (.int .i64 ((E % 2 : Nat) : Int)) ∧ w' = w := by
  have h1 : IntKind.i64.wrap (((E % 2 : Nat) : Int)) = ((E % 2 : Nat) : Int) := by rw [IntKind.wrap_i64]; omega
  go_enter Tryz.func84, Tryz.ntmps84
  go_wp2
  go_ret
  exact ⟨Oret_int (by omega), rfl⟩
theorem firstSector_any (E : Nat) (hE : E ≤ 9223372036854775807) (a : Nat) (ha : a ≤ 256) (w : World) : Calls Tryz.prog 92 #[.int .u64 (E : Int), .int .i64 (a : Int)] w fun e w' => e = .returned (.int .i64 ((2 + E % 2 * a : Nat) : Int)) ∧ w' = w := by
  have h2 : E % 2 < 2 := Nat.mod_lt _ (by omega)
  have HS := Lib.hid (headSector_any E hE w)
  generalize E % 2 = r at *
  have hp : r * a ≤ 1 * a := Nat.mul_le_mul_right _ (by omega)
  go_enter Tryz.func92, Tryz.ntmps92
  go_wp2_with (go_at_call 84; refine HS.out.mono ?_; rintro e w' ⟨rfl, rfl⟩)
  go_ret
  exact ⟨Oret_int (by rw [Int.natCast_add, Int.natCast_mul]; rfl), rfl⟩
/-- How many sectors a journal needs whose areas have so many. -/
def sectN (a : Int) : Nat := if a < 1 ∨ a > 256 then 0 else (2 + 2 * a).toNat
theorem sectN_low {a : Int} (h : a < 1) : sectN a = 0 := by unfold sectN; rw [if_pos (.inl h)]
theorem sectN_high {a : Int} (h : a > 256) : sectN a = 0 := by unfold sectN; rw [if_pos (.inr h)]
theorem sectN_ok {a : Int} (h : 1 ≤ a) (h2 : a ≤ 256) : (sectN a : Int) = 2 + 2 * a := by unfold sectN; rw [if_neg (by omega)]; omega
theorem Sectors_any (a : Int) (w : World) : Calls Tryz.prog 17 #[.int .i64 a] w fun e w' => e = .returned (.int .i64 (sectN a : Int)) ∧ w' = w := by
  by_cases h1 : a < 1
  · rw [sectN_low h1]
    go_enter Tryz.func17, Tryz.ntmps17
    go_wp2
    go_ret
    exact ⟨rfl, rfl⟩
  · by_cases h2 : a > 256
    · rw [sectN_high h2]
      go_enter Tryz.func17, Tryz.ntmps17
      go_wp2
      go_ret
      exact ⟨rfl, rfl⟩
    · rw [sectN_ok (by omega) (by omega)]
      go_enter Tryz.func17, Tryz.ntmps17
      go_wp2
      go_ret
      exact ⟨rfl, rfl⟩
theorem sector_any (p : Nat) (hp : p ≤ 1073741824) (w : World) : Calls Tryz.prog 52 #[.int .i64 (p : Int)] w fun e w' => e = .returned (.int .i64 ((p / 256 : Nat) : Int)) ∧ w' = w := by
  go_enter Tryz.func52, Tryz.ntmps52
  go_wp2
  go_ret
  exact ⟨Oret_int (by omega), rfl⟩
theorem start_any (p : Nat) (hp : p ≤ 1073741824) (w : World) : Calls Tryz.prog 55 #[.int .i64 (p : Int)] w fun e w' => e = .returned (.int .i64 ((p / 256 * 256 : Nat) : Int)) ∧ w' = w := by
  have HS := Lib.hid (sector_any p hp w)
  have hq : p / 256 * 256 ≤ p := Nat.div_mul_le_self _ _
  generalize p / 256 = q at *
  go_enter Tryz.func55, Tryz.ntmps55
  go_wp2_with (go_at_call 52; refine HS.out.mono ?_; rintro e w' ⟨rfl, rfl⟩)
  go_ret
  exact ⟨Oret_int (by omega), rfl⟩
theorem up_any (p : Nat) (hp : p ≤ 1073740000) (w : World) : Calls Tryz.prog 56 #[.int .i64 (p : Int)] w fun e w' => e = .returned (.int .i64 (((p + 255) / 256 * 256 : Nat) : Int)) ∧ w' = w := by
  have hs := start_any (p + 255) (by omega) w
  rw [show ((p + 255 : Nat) : Int) = (p : Int) + 256 - 1 by omega] at hs
  have HS := Lib.hid hs
  clear hs
  go_enter Tryz.func56, Tryz.ntmps56
  go_wp2_with fail
  refine HS.out.mono ?_; rintro e w' ⟨rfl, rfl⟩
  go_wp2
  go_ret
  exact ⟨rfl, rfl⟩

theorem l32 {α : Type} {l : List α} (h : l.length = 32) : ∃ a0 a1 a2 a3 a4 a5 a6 a7 b0 b1 b2 b3 b4 b5 b6 b7 c0 c1 c2 c3 c4 c5 c6 c7 d0 d1 d2 d3 d4 d5 d6 d7, l = [a0, a1, a2, a3, a4, a5, a6, a7, b0, b1, b2, b3, b4, b5, b6, b7, c0, c1, c2, c3, c4, c5, c6, c7, d0, d1, d2, d3, d4, d5, d6, d7] := by
  match l, h with
  | [a0, a1, a2, a3, a4, a5, a6, a7, b0, b1, b2, b3, b4, b5, b6, b7, c0, c1, c2, c3, c4, c5, c6, c7, d0, d1, d2, d3, d4, d5, d6, d7], _ => exact ⟨a0, a1, a2, a3, a4, a5, a6, a7, b0, b1, b2, b3, b4, b5, b6, b7, c0, c1, c2, c3, c4, c5, c6, c7, d0, d1, d2, d3, d4, d5, d6, d7, rfl⟩
theorem fold98 (E : Int) (ch : List UInt8) (h : ch.length = 32) : List.foldl (fun (cs : Array Value) (x : Value × Nat) => cs.setIfInBounds (5 + x.snd) x.fst) #[.int .u64 E, .slice none 0 0, .int .i64 0, .int .i8 0, .int .i64 0, .int .u8 0, .int .u8 0, .int .u8 0, .int .u8 0, .int .u8 0, .int .u8 0, .int .u8 0, .int .u8 0, .int .u8 0, .int .u8 0, .int .u8 0, .int .u8 0, .int .u8 0, .int .u8 0, .int .u8 0, .int .u8 0, .int .u8 0, .int .u8 0, .int .u8 0, .int .u8 0, .int .u8 0, .int .u8 0, .int .u8 0, .int .u8 0, .int .u8 0, .int .u8 0, .int .u8 0, .int .u8 0, .int .u8 0, .int .u8 0, .int .u8 0, .int .u8 0] (cs8 ch).zipIdx = (lg E (.slice none 0 0) 0 0 ch).toArray := by
  obtain ⟨a0, a1, a2, a3, a4, a5, a6, a7, b0, b1, b2, b3, b4, b5, b6, b7, c0, c1, c2, c3, c4, c5, c6, c7, d0, d1, d2, d3, d4, d5, d6, d7, rfl⟩ := l32 h
  kernel_rfl
theorem sets_app : ∀ (vs a b : List Value), b.length = vs.length → sets (a ++ b) a.length vs = a ++ vs
  | [], a, b, h => by
    obtain rfl : b = [] := List.eq_nil_of_length_eq_zero h
    rfl
  | v :: r, a, [], h => by cases h
  | v :: r, a, u :: b, h => by
    rw [sets, List.set_append_right _ _ (Nat.le_refl _), Nat.sub_self, List.set_cons_zero]
    have := sets_app r (a ++ [v]) b (by simpa using h)
    rw [List.length_append, List.length_singleton, List.append_assoc, List.append_assoc] at this
    exact this
theorem lg_sets (E : Int) (v : Value) (lr n : Int) (ch ch' : List UInt8) (h : ch.length = 32) (h' : ch'.length = 32) : sets (lg E v lr n ch) 5 (cs8 ch') = lg E v lr n ch' :=
  sets_app (cs8 ch') [.int .u64 E, v, .int .i64 0, .int .i8 lr, .int .i64 n] (cs8 ch) (by rw [cs8_length, cs8_length, h, h'])
theorem lg_chain (E : Int) (v : Value) (lr n : Int) (ch : List UInt8) : ∀ j u, (cs8 ch)[j]? = some u → (lg E v lr n ch)[5 + j]? = some u := by
  intro j u h
  unfold lg
  rw [List.getElem?_append_right (by simp)]
  simpa using h

/-- A log in memory: its records rs; its buffer's row v, from block base on. -/
structure Lg (w : World) (base g E : Nat) (rs : List (UInt8 × List UInt8)) (v : Value) : Prop where
  bk : ∃ lr, Bk w g (lg E v lr (rs.length : Int) (endR (fstC E) rs))
  row : Ow w base v (recsB (fstC E) rs)
  ne : v.ownBlock ≠ some g
  nil : recsB (fstC E) rs = [] → v = .slice none 0 0
  hg : base ≤ g

set_option maxHeartbeats 800000 in
theorem newLog_any (E : Nat) (hE : E ≤ 9223372036854775807) (w : World) :
    Calls Tryz.prog 43 #[.int .u64 (E : Int)] w fun e w' => ∃ g, e = .returned (.pointer (some ⟨g, 0, none⟩)) ∧ w.heap.size ≤ g ∧ Lg w' g g E [] (.slice none 0 0) ∧ Below w.heap.size w w' := by
  have HF := Lib.hid (First_any (E : Int) w (by omega) (by omega))
  have HC := Lib.hid (fstC_length E)
  rw [show ((E : Int)).toNat = E by omega, show sumS (OwordB E 8) = fstC E from rfl] at HF
  have HB := Lib.hid (fold98 (E : Int) (fstC E) HC.out)
  have hE0 : endR (fstC E) [] = fstC E := rfl
  generalize hF : fstC E = F at *
  have HFF := Lib.hid hF
  clear hF
  go_enter Tryz.func43, Tryz.ntmps43
  go_wp2_with fail
  refine HF.out.mono ?_; rintro e w1 ⟨rfl, hb⟩
  have HB1 := Lib.hid hb
  clear hb
  have hc8 : (cs8 F).length = 32 := by rw [cs8_length]; exact HC.out
  go_wp2
  go_ret
  rw [HB.out]
  refine ⟨w1.heap.size, rfl, HB1.out.size, ⟨⟨0, ?_⟩, ?_, ?_, fun _ => rfl, Nat.le_refl _⟩, bl_alloc HB1.out _⟩
  · rw [HFF.out]
    exact Bk.new w1 (lg (E : Int) (.slice none 0 0) 0 0 F) 98
  · exact World.ownsRow_nil _ _ _ _
  · simp [Value.ownBlock]
end Go.Proofs.YtgpfognglpfmoaaGreatDoor
end
