/- Texts of this claim, one behind the other: DFd, DFf, DShelf, DCh, DFj, DFe. -/
import Derived.Test.YtdfihpnmiiaflaaDoorZ09
import Derived.Test.YtdfihpnmiiaflaaDoorProg
import Derived.Shelf.SlIterI.Keys
import Derived.Shelf.SlIterI.Sorted
import Derived.Shelf.SortM.Plain
import Derived.Shelf.SortM.SortNone
set_option linter.unusedSimpArgs false
set_option linter.unusedVariables false
section
/- Write that may not be; Read. -/
namespace Go.Proofs.YtdfihpnmiiaflaaDoor
set_option linter.unusedSimpArgs false
set_option linter.unusedVariables false
open Go.RowKit Go.Maps

section
variable {w : World} {p s m : Nat} {B : List UInt8} {C : Ca}

theorem write_bad (h : Dk w p s m B C) (i : Int) {A : Option Addr} {n c : Nat} (hb : ¬ (0 ≤ i ∧ i < C.length ∧ n = 256)) :
    Calls Tryd.prog 25 #[ptr p, .int .i64 i, .slice A n c] w fun e w' => e = .returned (.int .i64 2) ∧ w' = w := by
  have HM := Lib.hid (made_any h)
  have HH := has_any h i
  clear h
  by_cases hi : 0 ≤ i ∧ i < C.length
  · have hn : ¬ (n : Int) = 256 := fun e => hb ⟨hi.1, hi.2, by omega⟩
    rw [decide_eq_true hi] at HH
    have HH := Lib.hid HH
    clear hb hi
    go_enter Tryd.func25, Tryd.ntmps25
    go_wp2_with (first | (go_at_call 41; refine HM.out.mono ?_; rintro e w' ⟨rfl, rfl⟩) | (go_at_call 45; refine HH.out.mono ?_; rintro e w' ⟨rfl, rfl⟩))
    go_ret
    exact ⟨rfl, rfl⟩
  · rw [decide_eq_false hi] at HH
    have HH := Lib.hid HH
    clear hb hi
    go_enter Tryd.func25, Tryd.ntmps25
    go_wp2_with (first | (go_at_call 41; refine HM.out.mono ?_; rintro e w' ⟨rfl, rfl⟩) | (go_at_call 45; refine HH.out.mono ?_; rintro e w' ⟨rfl, rfl⟩))
    go_ret
    exact ⟨rfl, rfl⟩
theorem write_nil (w : World) (i : Value) (v : Value) : Calls Tryd.prog 25 #[.pointer none, i, v] w fun e w' => e = .returned (.int .i64 1) ∧ w' = w := by
  go_enter Tryd.func25, Tryd.ntmps25
  go_wp2_with (go_at_call 41; refine (made_nil _).mono ?_; rintro e w' ⟨rfl, rfl⟩)
  go_ret
  exact ⟨rfl, rfl⟩
theorem dread_nil (w : World) (i : Value) : Calls Tryd.prog 46 #[.pointer none, i] w fun e w' => e = .returned (.tuple #[.slice none 0 0, .int .i64 1]) ∧ w' = w := by
  go_enter Tryd.func46, Tryd.ntmps46
  go_wp2_with (go_at_call 41; refine (made_nil _).mono ?_; rintro e w' ⟨rfl, rfl⟩)
  go_ret2
  exact ⟨rfl, rfl⟩
theorem read_bad (h : Dk w p s m B C) (i : Int) (hb : ¬ (0 ≤ i ∧ i < C.length)) :
    Calls Tryd.prog 46 #[ptr p, .int .i64 i] w fun e w' => e = .returned (.tuple #[.slice none 0 0, .int .i64 2]) ∧ w' = w := by
  have HM := Lib.hid (made_any h)
  have HH := has_any h i
  clear h
  rw [decide_eq_false hb] at HH
  have HH := Lib.hid HH
  clear hb
  go_enter Tryd.func46, Tryd.ntmps46
  go_wp2_with (first | (go_at_call 41; refine HM.out.mono ?_; rintro e w' ⟨rfl, rfl⟩) | (go_at_call 45; refine HH.out.mono ?_; rintro e w' ⟨rfl, rfl⟩))
  go_ret2
  exact ⟨rfl, rfl⟩

theorem look_some {i : Nat} {x : List UInt8} (h : C.getD i none = some x) : look B C i = x := by unfold look; rw [h]; rfl
theorem look_none {i : Nat} (h : C.getD i none = none) : look B C i = sect B i := by unfold look; rw [h]; rfl
/-- What lies in a block that does not change reads as it did. -/
theorem Rd.kpN {w' : World} {may : Nat → Prop} {top g n c : Nat} {l : List UInt8} (h : Rd w top (some ⟨g, 0, none⟩) n c l) (hk : Kp may w w') (hg : g < w.heap.size) (hm : ¬ may g) : Rd w' top (some ⟨g, 0, none⟩) n c l :=
  ⟨h.1, h.2.1, fun hn => by
    obtain ⟨ad, e, hb, hc⟩ := h.2.2 hn
    injection e with e
    subst e
    exact ⟨_, rfl, hb, fun j u hu => (hk.cell (by rw [add_block]; exact hg) (by rw [add_block]; exact hm)).trans (hc j u hu)⟩⟩
/-- A new variable of an array's type. -/
theorem wpList_alloc_dz {ops : Array Oper} {rest : List Oper} {o : Oper} {a : Act} {Q : Exit → Act → World → Prop} (hgd : o.guard = none) (T : TypeId) (ho : o.op = .alloc T) (z : List Value) (hz : ∀ w, (zeroValue T).run Tryd.prog w = .ok (.agg z.toArray) w)
    (h : wpList Tryd.prog ops Q rest (a.put o.dst (.pointer (some ⟨w.heap.size, 0, none⟩))) (w.alloc (.cells z.toArray T))) : wpList Tryd.prog ops Q (o :: rest) a w := by
  refine wpList_plain hgd fun K hK => ?_
  unfold Oper.wp execOp
  simp only [ho, Sem.run_bind, hz, Result.andThen_ok, Sem.run_pure, go_sem]
  exact hK _ _ h
theorem zero63L : ∀ w, (zeroValue 82).run Tryd.prog w = .ok (.agg (cs8 (List.replicate 256 0)).toArray) w := fun w => by
  have := Tryd.zeroValue82 w
  rw [zero63] at this
  exact this
theorem info63 : (Tryd.prog.info? 82).map (·.size) = some 256 := by kernel_rfl
theorem setRow_new (w : World) (Z cs : Array Value) (t : TypeId) : (w.alloc (.cells Z t)).setRow w.heap.size cs = w.alloc (.cells cs t) := by
  have h : ((w.heap.push (.cells Z t)).modify w.heap.size fun o => match o with | .cells _ t fr => .cells cs t fr | o => o) = w.heap.push (.cells cs t) := by
    apply Array.ext
    · simp
    · intro i h1 h2
      rw [Array.getElem_modify]
      by_cases hi : w.heap.size = i
      · subst hi; simp
      · rw [if_neg hi]
        simp only [Array.size_modify, Array.size_push] at h1
        rw [Array.getElem_push_lt (by omega), Array.getElem_push_lt (by omega)]
  exact congrArg (fun h => ({ w with heap := h } : World)) h
/-- A sector stored into the newest variable. -/
theorem wpList_store_fresh {ops : Array Oper} {rest : List Oper} {o : Oper} {a : Act} {Q : Exit → Act → World → Prop} {Z : List UInt8} {t : TypeId} (hgd : o.guard = none) (x y : Operand) (ho : o.op = .store 82 x y)
    (hx : a.eval x = .pointer (some ⟨w.heap.size, 0, none⟩)) {l : List UInt8} (hy : a.eval y = sec l) (hZ : Z.length = 256) (hl : l.length = 256)
    (h : wpList Tryd.prog ops Q rest (a.put o.dst undef) (w.alloc (.cells (cs8 l).toArray t))) : wpList Tryd.prog ops Q (o :: rest) a (w.alloc (.cells (cs8 Z).toArray t)) := by
  refine wpList_plain hgd fun K hK => wp_store_row 82 x y ho w.heap.size (cs8 l).toArray hx hy t (cs8 Z).toArray (heap_alloc_new w _) (by rw [info63]; simp [cs8_length, hl]) (by simp [cs8_length, hZ, hl]) (all_oneCell_toArray (cs8_one l)) ?_
  rw [setRow_new]
  exact hK _ _ h
/-- A sector, loaded. -/
theorem wpList_load_sec {ops : Array Oper} {rest : List Oper} {o : Oper} {a : Act} {Q : Exit → Act → World → Prop} (hgd : o.guard = none) (x : Operand) (ho : o.op = .load 82 x)
    {ad : Addr} (hx : a.eval x = .pointer (some ad)) {l : List UInt8} (hl : l.length = 256) (hc : ∀ j u, l[j]? = some u → w.cell? (ad.add j) = some (B8 u))
    (h : wpList Tryd.prog ops Q rest (a.put o.dst (sec l)) w) : wpList Tryd.prog ops Q (o :: rest) a w := by
  refine wpList_plain hgd fun K hK => ?_
  unfold Oper.wp
  rw [exec_load_sec ho hx hl hc]
  exact hK _ _ h
theorem Bd.cells (h : Bd w s B) {i : Nat} : ∀ j u, (sect B i)[j]? = some u → w.cell? ((⟨s, i * 256, none⟩ : Addr).add j) = some (B8 u) := by
  intro j u hu
  rw [Addr.add_mid, Nat.mul_comm]
  simp only [sect, List.getElem?_take] at hu
  split at hu
  · exact h.cell (by rw [← hu, List.getElem?_drop])
  · cases hu
theorem Dk.bound (h : Dk w p s m B C) {i : Nat} (hi : i < C.length) : 256 * i + 256 ≤ B.length := by have := h.hB; omega

set_option maxRecDepth 100000 in
theorem read_ok (h : Dk w p s m B C) (i : Nat) (hi : i < C.length) :
    Calls Tryd.prog 46 #[ptr p, .int .i64 (i : Int)] w fun e w' => e = .returned (.tuple #[.slice (some ⟨w.heap.size, 0, none⟩) 256 256, .int .i64 0]) ∧ Rd w' w'.heap.size (some ⟨w.heap.size, 0, none⟩) 256 256 (look B C i) ∧ Below w.heap.size w w' := by
  have HM := Lib.hid (made_any h)
  have HH := has_any h (i : Int)
  rw [decide_eq_true ⟨by omega, by omega⟩] at HH
  have HH := Lib.hid HH
  have HD := Lib.hid h
  have h1 := h.h1
  obtain ⟨cap, hc, hc2, c0, c1⟩ := h.c0
  have d0 : ∀ o, (w.alloc o).cell? ⟨p, 0, none⟩ = some (.slice (some ⟨s, 0, none⟩) C.length cap) := fun o => by rw [World.cell?_of_block (Below.heap_alloc w o p h.plt)]; exact c0
  have hlk := h.look_ok (i := i) (by omega)
  have HV := Lib.hid (valAt_len h.hC i)
  have HL := Lib.hid (look_len h.hC (h.bound hi))
  have HZ : (List.replicate 256 (0 : UInt8)).length = 256 := List.length_replicate
  have fin : ∀ (W : World), W = w.alloc (.cells (cs8 (look B C i)).toArray 82) → Rd W W.heap.size (some ⟨w.heap.size, 0, none⟩) 256 256 (look B C i) ∧ Below w.heap.size w W := by
    rintro W rfl
    have hl := look_len h.hC (h.bound hi)
    have := Rd.of_block (heap_alloc_new w (.cells (cs8 (look B C i)).toArray 82)) (top := (w.alloc (.cells (cs8 (look B C i)).toArray 82)).heap.size) (by simp)
    rw [hl] at this
    exact ⟨this, bl_alloc (bl0 w) _⟩
  cases hg : C.getD i none with
  | some x =>
    rw [hg] at hlk
    have e1 : valAt C i = look B C i := by rw [val_some hg, look_some hg]
    rw [e1] at hlk HV
    clear h hg e1
    have FIN := Lib.hid fin
    clear fin
    generalize look B C i = L at *
    go_enter Tryd.func46, Tryd.ntmps46
    go_wp2_with (first | (go_at_call 41; refine HM.out.mono ?_; rintro e w' ⟨rfl, rfl⟩) | (go_at_call 45; refine HH.out.mono ?_; rintro e w' ⟨rfl, rfl⟩) | (refine wpList_alloc_dz rfl 82 rfl _ zero63L ?_) | (refine wpList_store_fresh rfl _ _ rfl rfl rfl HZ HL.out ?_))
    go_ret2
    obtain ⟨r1, r2⟩ := FIN.out _ rfl
    exact ⟨rfl, r1, r2⟩
  | none =>
    rw [hg] at hlk
    have e1 := look_none (B := B) hg
    have HB : ∀ o, Hid (∀ j u, (look B C i)[j]? = some u → (w.alloc o).cell? ((⟨s, i * 256, none⟩ : Addr).add j) = some (B8 u)) := fun o => Lib.hid (by
      rw [e1]
      exact ((h.old (bl_alloc (bl0 w) o)).hs).cells)
    clear h hg e1
    have FIN := Lib.hid fin
    clear fin
    generalize look B C i = L at *
    generalize valAt C i = V at *
    go_enter Tryd.func46, Tryd.ntmps46
    go_wp2_with (first | (go_at_call 41; refine HM.out.mono ?_; rintro e w' ⟨rfl, rfl⟩) | (go_at_call 45; refine HH.out.mono ?_; rintro e w' ⟨rfl, rfl⟩) | (refine wpList_alloc_dz rfl 82 rfl _ zero63L ?_) | (refine wpList_store_fresh rfl _ _ rfl rfl rfl HZ HV.out ?_) | (refine wpList_store_fresh rfl _ _ rfl rfl rfl HV.out HL.out ?_) | (refine wpList_load_sec rfl _ rfl rfl HL.out (HB _).out ?_))
    go_ret2
    obtain ⟨r1, r2⟩ := FIN.out _ rfl
    exact ⟨rfl, r1, r2⟩
end
end Go.Proofs.YtdfihpnmiiaflaaDoor
end
section
/- A sector of one byte; what an act writes; a number modulo another one. -/
namespace Go.Proofs.YtdfihpnmiiaflaaDoor
set_option maxRecDepth 8192
set_option linter.unusedSimpArgs false
set_option linter.unusedVariables false
open Go.RowKit Go.Maps

/-- n modulo m, from 0 on. -/
def pickN (n m : Int) : Nat := (if n.tmod m < 0 then n.tmod m + m else n.tmod m).toNat
theorem pickN_lt (n m : Int) (hm : 1 ≤ m) : (pickN n m : Int) < m := by
  have h1 : -m < n.tmod m := Int.lt_tmod_of_pos n (show (0 : Int) < m by omega)
  have h2 : n.tmod m < m := Int.tmod_lt_of_pos n (by omega)
  unfold pickN
  split <;> omega
theorem pick_any (w : World) (n m : Int) (hm : 1 ≤ m) (hm2 : m ≤ 1000) :
    Calls Tryd.prog 22 #[.int .i64 n, .int .i64 m] w fun e w' => e = .returned (.int .i64 (pickN n m : Int)) ∧ w' = w := by
  have h1 : -m < n.tmod m := Int.lt_tmod_of_pos n (show (0 : Int) < m by omega)
  have h2 : n.tmod m < m := Int.tmod_lt_of_pos n (by omega)
  by_cases hs : n.tmod m < 0
  · go_enter Tryd.func22, Tryd.ntmps22
    go_wp2
    go_ret
    refine ⟨?_, rfl⟩
    rw [pickN, if_pos hs, Int.toNat_of_nonneg (by omega)]
    rfl
  · go_enter Tryd.func22, Tryd.ntmps22
    go_wp2
    go_ret
    refine ⟨?_, rfl⟩
    rw [pickN, if_neg (by omega), Int.toNat_of_nonneg (by omega)]
    rfl

/-- A block of one's own that holds bytes. -/
def Row (w : World) (g : Nat) (l : List UInt8) : Prop := w.heap[g]? = some (.cells (cs8 l).toArray 5 (0, 0))
section
variable {w w' : World} {g : Nat} {l : List UInt8}
theorem Row.lt (h : Row w g l) : g < w.heap.size := (Array.getElem?_eq_some_iff.1 h).1
theorem Row.cell (h : Row w g l) {j : Nat} {b : UInt8} (hj : l[j]? = some b) : w.cell? ⟨g, j, none⟩ = some (B8 b) := by
  rw [cell_of_row w g j _ 5 (0, 0) h]
  simp [cs8, hj]
theorem Row.frozen (h : Row w g l) (j : Nat) : w.frozen? ⟨g, j, none⟩ = false := by
  unfold Row at h
  simp [World.frozen?, h]
theorem Row.of (h : Row w g l) (e : w'.heap[g]? = w.heap[g]?) : Row w' g l := e.trans h
theorem Row.set (h : Row w g l) (i : Nat) (b : UInt8) : Row (w.setCell ⟨g, i, none⟩ (B8 b)) g (l.set i b) := by
  unfold Row at h ⊢
  simp only [World.setCell, Array.getElem?_modify, if_pos trivial, if_true, h, Option.map_some]
  simp [cs8, List.map_set]
theorem Row.rd (h : Row w g l) : Rd w w.heap.size (some ⟨g, 0, none⟩) l.length l.length l := Rd.of_block h (Array.getElem?_eq_some_iff.1 h).1
theorem Row.ow (h : Row w g l) {base : Nat} (hb : base ≤ g) (hl : l.length ≤ 4294967296) : Ow w base (.slice (some ⟨g, 0, none⟩) l.length l.length) l :=
  ⟨by rw [cs8_length, Nat.mul_one], .inr ⟨g, l.length, _, rfl, hb, h, Nat.le_refl _, by simp only [maxLen]; omega, by simp [cs8_length], by rw [Nat.mul_one, ← cs8_length l]; simp⟩⟩
theorem bl_set {w0 : World} (h : Below w0.heap.size w0 w) (hg : w0.heap.size ≤ g) (o : Nat) (u : Value) : Below w0.heap.size w0 (w.setCell ⟨g, o, none⟩ u) := bl_only h (Only.set w o u) hg
end

theorem made8 (n : Nat) : madeCells (Value.int .u8 0).cells n = (cs8 (List.replicate n 0)).toArray := by
  apply Array.ext
  · rw [size_madeCells, List.size_toArray, cs8_length, List.length_replicate]
  · intro i h1 h2
    simp only [madeCells, Array.getElem_map, List.getElem_toArray, cs8, List.getElem_map, List.getElem_replicate]
    simp [Value.cells, Nat.mod_one, B8]
theorem run_make8 (w : World) (n : Nat) (hn : n ≤ 4194304) : (Instr.makeSlice 30 (.int .i64 (n : Int)) (.int .i64 (n : Int))).run Tryd.prog w = .ok (.slice (some ⟨w.heap.size, 0, none⟩) n n) (w.alloc (.cells (cs8 (List.replicate n 0)).toArray 5)) := by
  obtain ⟨i, hi, hz0, hz1, hz2⟩ := info_parts info_u8
  have hr := run_make (P := Tryd.prog) w 30 5 i _ Tryd.underlying30 hi hz0 .i64 .i64 n n (by omega) (Int.le_refl _) (by rw [hz2]; omega) (by omega)
  rw [hr, hz1, Nat.mul_one, made8]
  simp

theorem le_refl_hs (w : World) : w.heap.size ≤ w.heap.size := Nat.le_refl _
end Go.Proofs.YtdfihpnmiiaflaaDoor
end
section
/-
  The library contracts that this dump uses, laid: maps.Keys, slices.Sorted, slices.Sort, maps.Clone, slices.Clone.
-/
namespace Go.Proofs
open Go.Shelf
def Tryd.keysA_ren : Go.Shelf.Ren := ⟨fun | 7 => 56 | 10 => 66 | n => n, fun | 23 => 59 | 26 => 3 | 3 => 82 | 28 => 94 | 0 => 0 | 27 => 93 | 33 => 68 | 4 => 4 | n => n, fun | n => n⟩
theorem Tryd.keysA : Go.Proofs.SlLaysZI.n7 Tryd.prog Tryd.keysA_ren := {
  mixed := by kernel_rfl
  f7 := ⟨Tryd.f56.name, by decide, Tryd.func56.trans (congrArg some (by kernel_rfl))⟩
  f10 := ⟨Tryd.f66.name, by decide, Tryd.func66.trans (congrArg some (by kernel_rfl))⟩
  t0 := Tryd.underlying0
  a0 := Tryd.isAgg0
  z0 := Tryd.sizeOf0
  v0 := Tryd.zeroValue0
  t4 := Tryd.underlying4
  a4 := Tryd.isAgg4
  z4 := Tryd.sizeOf4
  v4 := Tryd.zeroValue4
  t23 := Tryd.underlying59
  a23 := Tryd.isAgg59
  z23 := Tryd.sizeOf59
  v23 := Tryd.zeroValue59
  t26 := Tryd.underlying3
  a26 := Tryd.isAgg3
  z26 := Tryd.sizeOf3
  v26 := Tryd.zeroValue3
  t27 := Tryd.underlying93
  a27 := Tryd.isAgg93
  z27 := Tryd.sizeOf93
  v27 := Tryd.zeroValue93
  t28 := Tryd.underlying94
  a28 := Tryd.isAgg94
  z28 := Tryd.sizeOf94
  v28 := Tryd.zeroValue94
  t33 := Tryd.underlying68
  a33 := Tryd.isAgg68
  z33 := Tryd.sizeOf68
  v33 := Tryd.zeroValue68 }
def Tryd.sortedA_ren : Go.Shelf.Ren := ⟨fun | 6 => 55 | 8 => 64 | 9 => 65 | 11 => 72 | 13 => 74 | 12 => 73 | 23 => 87 | 24 => 88 | 14 => 78 | 15 => 79 | 16 => 80 | 17 => 81 | 18 => 82 | 19 => 83 | 20 => 84 | 21 => 85 | 22 => 86 | 25 => 90 | 26 => 91 | 27 => 92 | 28 => 93 | 29 => 94 | 30 => 95 | 31 => 98 | n => n, fun | 26 => 3 | 28 => 94 | 24 => 29 | 0 => 0 | 3 => 3 | 37 => 91 | 48 => 128 | 50 => 78 | 4 => 4 | 40 => 120 | 39 => 119 | 45 => 125 | 5 => 5 | 9 => 9 | 51 => 131 | 55 => 135 | 57 => 139 | 58 => 140 | 33 => 68 | n => n, fun | n => n⟩
theorem Tryd.sortedA : Go.Proofs.SlLaysZI.n6 Tryd.prog Tryd.sortedA_ren := {
  mixed := by kernel_rfl
  f6 := ⟨Tryd.f55.name, by decide, Tryd.func55.trans (congrArg some (by kernel_rfl))⟩
  f8 := ⟨Tryd.f64.name, by decide, Tryd.func64.trans (congrArg some (by kernel_rfl))⟩
  f11 := ⟨Tryd.f72.name, by decide, Tryd.func72.trans (congrArg some (by kernel_rfl))⟩
  t0 := Tryd.underlying0
  a0 := Tryd.isAgg0
  z0 := Tryd.sizeOf0
  v0 := Tryd.zeroValue0
  t24 := Tryd.underlying29
  a24 := Tryd.isAgg29
  z24 := Tryd.sizeOf29
  v24 := Tryd.zeroValue29
  t26 := Tryd.underlying3
  a26 := Tryd.isAgg3
  z26 := Tryd.sizeOf3
  v26 := Tryd.zeroValue3
  t28 := Tryd.underlying94
  a28 := Tryd.isAgg94
  z28 := Tryd.sizeOf94
  v28 := Tryd.zeroValue94
  i26 := by kernel_rfl }
def Tryd.sortA_ren : Go.Shelf.Ren := ⟨fun | 5 => 65 | 8 => 74 | 7 => 73 | 19 => 87 | 20 => 88 | 10 => 78 | 11 => 79 | 12 => 80 | 13 => 81 | 14 => 82 | 15 => 83 | 16 => 84 | 17 => 85 | 18 => 86 | 30 => 90 | 31 => 91 | 32 => 92 | 33 => 93 | 34 => 94 | 35 => 95 | 40 => 98 | n => n, fun | 23 => 29 | 25 => 3 | 3 => 3 | 32 => 91 | 22 => 29 | 0 => 0 | 44 => 128 | 46 => 78 | 4 => 4 | 36 => 120 | 35 => 119 | 41 => 125 | 5 => 5 | 9 => 9 | 53 => 131 | 57 => 135 | 63 => 139 | 64 => 140 | n => n, fun | n => n⟩
theorem Tryd.sortA : Go.Proofs.SlLaysM.n5 Tryd.prog Tryd.sortA_ren := {
  mixed := by kernel_rfl
  f5 := ⟨Tryd.f65.name, by decide, Tryd.func65.trans (congrArg some (by kernel_rfl))⟩
  f7 := ⟨Tryd.f73.name, by decide, Tryd.func73.trans (congrArg some (by kernel_rfl))⟩
  f8 := Tryd.func74.trans (congrArg some (by kernel_rfl))
  f10 := ⟨Tryd.f78.name, by decide, Tryd.func78.trans (congrArg some (by kernel_rfl))⟩
  f11 := ⟨Tryd.f79.name, by decide, Tryd.func79.trans (congrArg some (by kernel_rfl))⟩
  f12 := ⟨Tryd.f80.name, by decide, Tryd.func80.trans (congrArg some (by kernel_rfl))⟩
  f13 := ⟨Tryd.f81.name, by decide, Tryd.func81.trans (congrArg some (by kernel_rfl))⟩
  f14 := ⟨Tryd.f82.name, by decide, Tryd.func82.trans (congrArg some (by kernel_rfl))⟩
  f15 := ⟨Tryd.f83.name, by decide, Tryd.func83.trans (congrArg some (by kernel_rfl))⟩
  f16 := ⟨Tryd.f84.name, by decide, Tryd.func84.trans (congrArg some (by kernel_rfl))⟩
  f17 := ⟨Tryd.f85.name, by decide, Tryd.func85.trans (congrArg some (by kernel_rfl))⟩
  f18 := ⟨Tryd.f86.name, by decide, Tryd.func86.trans (congrArg some (by kernel_rfl))⟩
  f19 := Tryd.func87.trans (congrArg some (by kernel_rfl))
  f20 := Tryd.func88.trans (congrArg some (by kernel_rfl))
  f30 := ⟨Tryd.f90.name, by decide, Tryd.func90.trans (congrArg some (by kernel_rfl))⟩
  f31 := Tryd.func91.trans (congrArg some (by kernel_rfl))
  f32 := Tryd.func92.trans (congrArg some (by kernel_rfl))
  f33 := ⟨Tryd.f93.name, by decide, Tryd.func93.trans (congrArg some (by kernel_rfl))⟩
  f34 := ⟨Tryd.f94.name, by decide, Tryd.func94.trans (congrArg some (by kernel_rfl))⟩
  f35 := ⟨Tryd.f95.name, by decide, Tryd.func95.trans (congrArg some (by kernel_rfl))⟩
  f40 := ⟨Tryd.f98.name, by decide, Tryd.func98.trans (congrArg some (by kernel_rfl))⟩
  t0 := Tryd.underlying0
  a0 := Tryd.isAgg0
  z0 := Tryd.sizeOf0
  v0 := Tryd.zeroValue0
  t3 := Tryd.underlying3
  a3 := Tryd.isAgg3
  z3 := Tryd.sizeOf3
  v3 := Tryd.zeroValue3
  t4 := Tryd.underlying4
  a4 := Tryd.isAgg4
  z4 := Tryd.sizeOf4
  v4 := Tryd.zeroValue4
  t5 := Tryd.underlying5
  a5 := Tryd.isAgg5
  z5 := Tryd.sizeOf5
  v5 := Tryd.zeroValue5
  t9 := Tryd.underlying9
  a9 := Tryd.isAgg9
  z9 := Tryd.sizeOf9
  v9 := Tryd.zeroValue9
  t22 := Tryd.underlying29
  a22 := Tryd.isAgg29
  z22 := Tryd.sizeOf29
  v22 := Tryd.zeroValue29
  t23 := Tryd.underlying29
  a23 := Tryd.isAgg29
  z23 := Tryd.sizeOf29
  v23 := Tryd.zeroValue29
  t25 := Tryd.underlying3
  a25 := Tryd.isAgg3
  z25 := Tryd.sizeOf3
  v25 := Tryd.zeroValue3
  t32 := Tryd.underlying91
  a32 := Tryd.isAgg91
  z32 := Tryd.sizeOf91
  v32 := Tryd.zeroValue91
  t35 := Tryd.underlying119
  a35 := Tryd.isAgg119
  z35 := Tryd.sizeOf119
  v35 := Tryd.zeroValue119
  t36 := Tryd.underlying120
  a36 := Tryd.isAgg120
  z36 := Tryd.sizeOf120
  v36 := Tryd.zeroValue120
  t41 := Tryd.underlying125
  a41 := Tryd.isAgg125
  z41 := Tryd.sizeOf125
  v41 := Tryd.zeroValue125
  t44 := Tryd.underlying128
  a44 := Tryd.isAgg128
  z44 := Tryd.sizeOf128
  v44 := Tryd.zeroValue128
  t46 := Tryd.underlying78
  a46 := Tryd.isAgg78
  z46 := Tryd.sizeOf78
  v46 := Tryd.zeroValue78
  t53 := Tryd.underlying131
  a53 := Tryd.isAgg131
  z53 := Tryd.sizeOf131
  v53 := Tryd.zeroValue131
  t57 := Tryd.underlying135
  a57 := Tryd.isAgg135
  z57 := Tryd.sizeOf135
  v57 := Tryd.zeroValue135
  t63 := Tryd.underlying139
  a63 := Tryd.isAgg139
  z63 := Tryd.sizeOf139
  v63 := Tryd.zeroValue139
  t64 := Tryd.underlying140
  a64 := Tryd.isAgg140
  z64 := Tryd.sizeOf140
  v64 := Tryd.zeroValue140 }
end Go.Proofs
end
section
/- The numbers of the cached sectors, sorted. -/
namespace Go.Proofs.YtdfihpnmiiaflaaDoor
set_option maxRecDepth 8192
set_option linter.unusedSimpArgs false
set_option linter.unusedVariables false
open Go.RowKit Go.Maps Go.Sort Go.Shelf

/-- The slice (A, n, c) reads, in w, as the numbers l, and lies from block base on. -/
def Ni (w : World) (base : Nat) (A : Option Addr) (n c : Nat) (l : List Nat) : Prop :=
  l.length = n ∧ n ≤ c ∧ (0 < n → ∃ ad, A = some ad ∧ base ≤ ad.block ∧ ad.block < w.heap.size ∧ ∀ (j u : Nat), l[j]? = some u → w.cell? (ad.add j) = some (.int .i64 (u : Int)))
theorem Ni.nil (w : World) (base c : Nat) (A : Option Addr) : Ni w base A 0 c [] := ⟨rfl, Nat.zero_le _, fun h => absurd h (by omega)⟩
theorem Ni.kp {may : Nat → Prop} {w w' : World} {base : Nat} {A : Option Addr} {n c : Nat} {l : List Nat} (h : Ni w base A n c l) (hk : Kp may w w') (hm : ∀ k, may k → k < base) : Ni w' base A n c l :=
  ⟨h.1, h.2.1, fun hn => by
    obtain ⟨ad, e, hb, ht, hc⟩ := h.2.2 hn
    exact ⟨ad, e, hb, Nat.lt_of_lt_of_le ht hk.size, fun j u hu => (hk.cell (p := ad.add j) (by rw [add_block]; exact ht) (fun h => by have := hm _ h; rw [add_block] at this; omega)).trans (hc j u hu)⟩⟩
theorem Ni.lower {w : World} {base base' : Nat} {A : Option Addr} {n c : Nat} {l : List Nat} (h : Ni w base A n c l) (hb : base' ≤ base) : Ni w base' A n c l :=
  ⟨h.1, h.2.1, fun hn => by
    obtain ⟨ad, e, hb, ht, hc⟩ := h.2.2 hn
    exact ⟨ad, e, by omega, ht, hc⟩⟩
theorem Ni.at_ {w : World} {base : Nat} {A : Option Addr} {n c : Nat} {l : List Nat} (h : Ni w base A n c l) {k : Nat} (hk : k < n) : ∃ ad u, A = some ad ∧ l[k]? = some u ∧ w.cell? (ad.add k) = some (.int .i64 (u : Int)) := by
  obtain ⟨ad, e, hb, ht, hc⟩ := h.2.2 (by omega)
  have hl : k < l.length := by have := h.1; omega
  exact ⟨ad, l[k], e, List.getElem?_eq_getElem hl, hc k _ (List.getElem?_eq_getElem hl)⟩

/-- slices.Sort's two contracts at this dump. -/
theorem sortsA (k : Nat) : AnyZI.SortsIn Tryd.prog Tryd.sortedA_ren Fence.wide k :=
  ⟨fun blk off cap ss W hH hblk hsz => callsIn_wide.2 (AnyM.slices_Sort_int Tryd.sortA blk off cap ss W hH hblk hsz),
   fun p cap W => callsIn_wide.2 (AnyM.slices_Sort_int_none Tryd.sortA p cap W)⟩

theorem ni_of_row {w : World} {base : Nat} {v : Value} {l : List Nat} (h : w.ownsRow base 3 1 v l.length (l.map fun j : Nat => encZ (j : Int))) : ∃ A c, v = .slice A l.length c ∧ Ni w base A l.length c l := by
  rcases h.2 with ⟨rfl, hn⟩ | ⟨g, cap, cur, rfl, hb, hg, hc, _, _, _⟩
  · rw [hn]
    refine ⟨none, 0, rfl, ?_⟩
    rw [List.eq_nil_of_length_eq_zero hn]
    exact Ni.nil _ _ _ _
  · refine ⟨some ⟨g, 0, none⟩, cap, rfl, rfl, hc, fun hn => ⟨_, rfl, hb, (Array.getElem?_eq_some_iff.1 hg).1, fun j u hu => ?_⟩⟩
    exact World.ownsRow.cells h (g := g) rfl j (encZ (u : Int)) (by simp [hu])

section
variable {w : World} {p s m : Nat} {B : List UInt8} {C : Ca}
set_option maxHeartbeats 1000000 in
theorem cached_any (h : Dk w p s m B C) :
    Calls Tryd.prog 44 #[ptr p] w fun e w' => ∃ A c, e = .returned (.slice A (idx 0 C).length c) ∧ Ni w' w.heap.size A (idx 0 C).length c (idx 0 C) ∧ Below w.heap.size w w' := by
  obtain ⟨k, hown⟩ := h.hm
  have h1 := h.h1
  have hmax : Maps.size (dat sec C) ≤ maxLen := by rw [size_dat]; have := idx_len C 0; simp only [maxLen]; omega
  have hbytes : Maps.size (dat sec C) * 8 ≤ 140737488355328 := by rw [size_dat]; have := idx_len C 0; omega
  refine (callsIn_wide (n := 6)).1 ?_
  have hbl := hown.lt
  have hseq : SeqGives Fence.wide 2 Tryd.prog 66 #[.pointer (some ⟨w.heap.size, 0, none⟩)] encZ (fun ss => ss.Perm (intKeys (dat sec C))) (Maps.size (dat sec C)) (w.alloc (.cells #[.map (some m)] 59)) :=
    AnyZI.keys_gives (ρ := Tryd.keysA_ren) { Tryd.keysA with } Fence.wide _ trivial rfl (by omega) w.heap.size m k (dat sec C) _ (by simp) (by simp) (by
      obtain ⟨es, clock, hb, Ft, hs, hD⟩ := hown
      exact ⟨es, clock, (Below.heap_alloc _ _ m hbl).trans hb, Ft, hs, hD⟩)
  have cK : ∀ mb W, CallsIn Fence.wide 5 Tryd.prog 56 #[.map mb] W fun e w' => e = .returned (.func (.func 66) #[] #[.pointer (some ⟨W.heap.size, 0, none⟩)]) ∧ w' = W.alloc (.cells #[.map mb] 59) := fun mb W => AnyZI.keys_in Tryd.keysA Fence.wide 5 trivial rfl mb W
  have cS := AnyZI.sorted_in Tryd.sortedA Fence.wide 5 trivial trivial trivial trivial rfl (by omega) (sortsA _) (enters_of Tryd.func65 (by kernel_rfl) rfl) 66 #[.pointer (some ⟨w.heap.size, 0, none⟩)] trivial (enters_of Tryd.func66 (by kernel_rfl) rfl) _ _ hmax hbytes _ hseq
  change CallsIn _ _ Tryd.prog 55 _ _ _ at cS
  have cM : CallsIn Fence.wide 5 Tryd.prog 41 #[ptr p] w fun e w' => e = .returned (.bool true) ∧ w' = w := callsIn_wide.2 (made_any h)
  have hfK : Fence.wide.fn 56 := trivial
  have hfS : Fence.wide.fn 55 := trivial
  have hfM : Fence.wide.fn 41 := trivial
  obtain ⟨cap, hc, hc2, c0, c1⟩ := h.c0
  have HH := Lib.hid h
  clear h
  refine callsIn_of_wp Tryd.func44 rfl trivial ?_ rfl
  simp only [Tryd.ntmps44, List.size_toArray, List.length_cons, List.length_nil, Nat.reduceAdd, Nat.reduceSub, Array.replicate_succ, Array.replicate_zero, List.push_toArray, List.append_toArray, List.nil_append, List.cons_append]
  gi_wp2_with (first
    | (gi_at_call 41; refine cM.mono ?_; rintro e w' ⟨rfl, rfl⟩)
    | (gi_at_call 56; refine (cK _ _).mono ?_; rintro e w' ⟨rfl, rfl⟩)
    | (gi_at_call 55; refine cS.mono ?_; rintro e w' ⟨v, ss, rfl, hS, hrow, hnil, hb⟩))
  go_ret
  have hsort : ss.mergeSort (fun x y => decide (x ≤ y)) = (idx 0 C).map fun j : Nat => (j : Int) := by
    rw [mergeSort_of_perm_i hS, keys_dat, sort_rising _ (idx_rising C 0)]
  have hlen : ss.length = (idx 0 C).length := by rw [hS.length_eq, keys_dat, List.length_map]
  rw [hsort, hlen, List.map_map] at hrow
  obtain ⟨A, c, rfl, hN⟩ := ni_of_row hrow
  exact ⟨A, c, rfl, hN.lower (by simp), ((Below.refl _ _).alloc (Nat.le_refl _) _).trans (hb.mono (by simp))⟩

theorem cached_nil (w : World) : Calls Tryd.prog 44 #[.pointer none] w fun e w' => e = .returned (.slice none 0 0) ∧ w' = w := by
  go_enter Tryd.func44, Tryd.ntmps44
  go_wp2_with (go_at_call 41; refine (made_nil _).mono ?_; rintro e w' ⟨rfl, rfl⟩)
  go_ret
  exact ⟨rfl, rfl⟩
end
end Go.Proofs.YtdfihpnmiiaflaaDoor
end
section
/- Those numbers whose keep is true. -/
namespace Go.Proofs.YtdfihpnmiiaflaaDoor
set_option linter.unusedSimpArgs false
set_option linter.unusedVariables false
open Go.RowKit Go.Maps

/-- The slice (A, n, c) reads, in w, as bools, and lies below block top. -/
def Bi (w : World) (top : Nat) (A : Option Addr) (n c : Nat) (l : List Bool) : Prop :=
  l.length = n ∧ n ≤ c ∧ (0 < n → ∃ ad, A = some ad ∧ ad.block < top ∧ ∀ j u, l[j]? = some u → w.cell? (ad.add j) = some (.bool u))
section
variable {w w' : World} {top base n c : Nat} {A : Option Addr} {l : List Bool}
theorem Bi.nil (w : World) (top c : Nat) (A : Option Addr) : Bi w top A 0 c [] := ⟨rfl, Nat.zero_le _, fun h => absurd h (by omega)⟩
theorem Bi.keep (h : Bi w top A n c l) (hk : ∀ p : Addr, p.block < top → w'.cell? p = w.cell? p) : Bi w' top A n c l :=
  ⟨h.1, h.2.1, fun hn => by
    obtain ⟨ad, e, hb, hc⟩ := h.2.2 hn
    exact ⟨ad, e, hb, fun j u hu => (hk _ (by rw [add_block]; exact hb)).trans (hc j u hu)⟩⟩
theorem Bi.below (h : Bi w top A n c l) (hb : Below top w w') : Bi w' top A n c l := h.keep fun _ hp => hb.cell hp
theorem Bi.at_ (h : Bi w top A n c l) {k : Nat} (hk : k < n) : ∃ ad u, A = some ad ∧ l[k]? = some u ∧ w.cell? (ad.add k) = some (.bool u) := by
  obtain ⟨ad, e, hb, hc⟩ := h.2.2 (by omega)
  have hl : k < l.length := by have := h.1; omega
  exact ⟨ad, l[k], e, List.getElem?_eq_getElem hl, hc k _ (List.getElem?_eq_getElem hl)⟩
end

/-- A row of numbers of the call's own. -/
def Oi (w : World) (base : Nat) (v : Value) (l : List Nat) : Prop := w.ownsRow base 3 1 v l.length (l.map fun j : Nat => encZ (j : Int))
theorem info_i64 : (Tryd.prog.info? 3).map (fun i => (i.zero, i.size, i.bytes)) = some (some (.int .i64 0), 1, 8) := by kernel_rfl
/-- append of one number. -/
theorem wpList_appn {w : World} {ops : Array Oper} {rest : List Oper} {o : Oper} {a : Act} {Q : Exit → Act → World → Prop} (hgd : o.guard = none) (s x : Operand)
    (ho : o.op = .call { callee := .builtin .append, args := #[s, x], argTypes := #[29, 29] })
    {base : Nat} {v : Value} {xs : List Nat} (hs : a.eval s = v) (hown : Oi w base v xs) {ad : Addr} {u : Nat} (hx : a.eval x = .slice (some ad) 1 1) (hr : w.cell? ad = some (.int .i64 (u : Int)))
    (hb : xs.length ≤ 4294967296) (hbase : base ≤ w.heap.size)
    (h : ∀ v' w', Oi w' base v' (xs ++ [u]) → w.grownBy w' v.ownBlock → wpList Tryd.prog ops Q rest (a.put o.dst v') w') : wpList Tryd.prog ops Q (o :: rest) a w := by
  obtain ⟨i, hi, hz0, hz1, hz2⟩ := info_parts info_i64
  refine wpList_plain hgd fun K hK => ?_
  obtain ⟨v', w', hrun, h2, h3, _, h5⟩ := run_append_own_at (P := Tryd.prog) w base 29 o.type 3 i (.int .i64 0) 1 8 Tryd.underlying29 hi hz0 hz1 hz2 rfl (by decide) v xs.length (xs.map fun j : Nat => encZ (j : Int)) hown ad 1 1 [encZ (u : Int)]
      rfl (fun j x hj => by
        cases j with
        | zero => simp at hj; subst hj; rw [show ad.add 0 = ad by unfold Addr.add; simp]; exact hr
        | succ j => simp at hj) (fun x hx => by simp at hx; subst hx; rfl) (by simp only [maxLen]; omega) (by omega) hbase
  unfold Oper.wp execOp
  simp only [ho, resolve, invoke, builtin, Sem.run_bind, Sem.run_pure, Result.andThen_ok, List.map_toArray, List.map_cons, List.map_nil, hs, hx, hrun]
  refine hK _ _ (h v' w' ?_ h3)
  unfold Oi
  rw [List.length_append, List.map_append]
  exact h2
theorem Oi.base {w : World} {v : Value} {base : Nat} {l : List Nat} (h : Oi w base v l) : ∀ r, v.ownBlock = some r → base ≤ r := by
  intro r hr
  rcases h.2 with ⟨rfl, _⟩ | ⟨g, cap, cur, rfl, hb, _⟩
  · cases hr
  · simp only [Value.ownBlock, Option.some.injEq] at hr
    omega
theorem Oi.nil (w : World) (base : Nat) : Oi w base (.slice none 0 0) [] := ⟨rfl, .inl ⟨rfl, rfl⟩⟩
theorem Oi.ni {w : World} {base : Nat} {v : Value} {l : List Nat} (h : Oi w base v l) : ∃ A c, v = .slice A l.length c ∧ Ni w base A l.length c l := ni_of_row h

theorem chosen_step : ∀ (l : List Nat) (k : List Bool) (i u : Nat) (b : Bool), l[i]? = some u → k[i]? = some b → chosen (l.take (i + 1)) (k.take (i + 1)) = chosen (l.take i) (k.take i) ++ (if b then [u] else [])
  | [], _, i, u, b, h, _ => by simp at h
  | _ :: _, [], i, u, b, _, h => by simp at h
  | x :: l, y :: k, 0, u, b, h1, h2 => by
    simp at h1 h2
    subst h1 h2
    cases y <;> simp [chosen]
  | x :: l, y :: k, i + 1, u, b, h1, h2 => by
    have := chosen_step l k i u b (by simpa using h1) (by simpa using h2)
    simp only [List.take_succ_cons]
    cases y
    · simpa [chosen] using this
    · simpa [chosen] using this
theorem chosen_take : ∀ (l : List Nat) (k : List Bool) (n : Nat), n = min l.length k.length → chosen (l.take n) (k.take n) = chosen l k
  | [], k, n, h => by cases k <;> simp [chosen]
  | x :: l, [], n, h => by simp [chosen]
  | x :: l, y :: k, n, h => by
    obtain ⟨n, rfl⟩ : ∃ q, n = q + 1 := ⟨n - 1, by simp only [List.length_cons] at h; omega⟩
    have := chosen_take l k n (by simp only [List.length_cons] at h; omega)
    simp only [List.take_succ_cons, chosen, this]

theorem chosen_len : ∀ (l : List Nat) (k : List Bool), (chosen l k).length ≤ l.length
  | [], k => by cases k <;> simp [chosen]
  | x :: l, [] => by simp [chosen]
  | x :: l, y :: k => by
    have := chosen_len l k
    cases y <;> simp [chosen] <;> omega
section
variable {w : World}
set_option maxRecDepth 100000 in
theorem chosen_any {base : Nat} {A : Option Addr} {n c : Nat} {l : List Nat} (hr : Ni w base A n c l) {top : Nat} {A2 : Option Addr} {n2 c2 : Nat} {k : List Bool} (hk : Bi w top A2 n2 c2 k) (ht : top ≤ w.heap.size) (hn : n ≤ 16384) (hn2 : n2 ≤ 4294967296) :
    Calls Tryd.prog 43 #[.slice A n c, .slice A2 n2 c2] w fun e w' => ∃ v, e = .returned v ∧ Oi w' w.heap.size v (chosen l k) ∧ Below w.heap.size w w' := by
  have HR := Lib.hid hr
  have HK := Lib.hid hk
  have hlen := hr.1
  have hlen2 := hk.1
  have hcap := hr.2.1
  have hcap2 := hk.2.1
  clear hr hk
  go_enter Tryd.func43, Tryd.ntmps43
  obtain ⟨q, hq⟩ : ∃ q, q = min n n2 := ⟨_, rfl⟩
  have e1 : min (n : Int) (n2 : Int) = (q : Int) := by omega
  have e3 : max (q : Int) 0 = (q : Int) := by omega
  have HQ := Lib.hid hq
  have hq1 : q ≤ n := by omega
  have hq2 : q ≤ n2 := by omega
  clear hq
  go_wp2
  have HN := Lib.hid hlen
  clear hlen hlen2
  clear e1 e3
  go_loopw [5, 16] (fun v i' wr => ∃ i : Nat, i ≤ q ∧ i' = .int .i64 (i : Int) ∧ Hid (Oi wr w.heap.size v (chosen (l.take i) (k.take i))) ∧ Hid (Below w.heap.size w wr)) (fun _ i' _ => q - (RowKit.intOf i').toNat)
  case atStart => exact ⟨0, by omega, rfl, Lib.hid (by simpa [chosen] using Oi.nil w w.heap.size), Lib.hid (bl0 w)⟩
  case round =>
    obtain ⟨i, hi, rfl, HO, HB⟩ := hrel
    by_cases hlt : i < q
    · obtain ⟨ad, u, rfl, hu, hcu⟩ := (HR.out.kp (Kp.of_old (may := fun _ => False) HB.out) (fun _ h => h.elim)).at_ (show i < n by omega)
      obtain ⟨ad2, b, rfl, hb, hcb⟩ := (HK.out.below ((HB.out).mono ht)).at_ (show i < n2 by omega)
      have HS := Lib.hid (chosen_step l k i u b hu hb)
      have HU := Lib.hid (show (l.take i).length ≤ 16384 by rw [List.length_take]; omega)
      have HCL : Hid ((chosen (l.take i) (k.take i)).length ≤ 4294967296) := Lib.hid (Nat.le_trans (chosen_len _ _) (by have := HU.out; omega))
      clear hu hb
      cases b with
      | false =>
        go_wp2
        go_roundw
        case rel => exact ⟨i + 1, by omega, by go_num, Lib.hid (by rw [HS.out]; simpa using HO.out), HB⟩
        case measure => simp [RowKit.intOf]; omega
      | true =>
        go_wp2_with (at_builtin; refine wpList_appn (base := w.heap.size) (u := u) (xs := chosen (l.take i) (k.take i)) rfl _ _ rfl rfl ?qo rfl ?qr ?qb ?qh ?_)
        case qo => exact World.ownsRow.alloc HO.out _
        case qb => exact HCL.out
        case qh =>
          have := HB.out.size
          simp
          omega
        intro v3 w3 ho3 hg3
        have HO3 := Lib.hid ho3
        have HB3 := Lib.hid ((bl_alloc HB.out (.cells #[.int .i64 (u : Int)] 3)).grown hg3 (by have := HB.out.size; simp; omega) HO.out.base)
        clear ho3 hg3
        go_wp2
        go_roundw
        case rel => exact ⟨i + 1, by omega, by go_num, Lib.hid (by rw [HS.out]; simpa using HO3.out), HB3⟩
        case measure => simp [RowKit.intOf]; omega
    · obtain rfl : i = q := by omega
      go_wp2
      go_ret
      refine ⟨_, rfl, ?_, HB.out⟩
      have := HO.out
      rw [chosen_take l k i (by have := HQ.out; have := HN.out; have := HK.out.1; omega)] at this
      exact this
end
end Go.Proofs.YtdfihpnmiiaflaaDoor
end
section
/- New. -/
namespace Go.Proofs.YtdfihpnmiiaflaaDoor
set_option linter.unusedSimpArgs false
set_option linter.unusedVariables false
open Go.RowKit Go.Maps

/-- Noughts. -/
abbrev zs (n : Nat) : List UInt8 := List.replicate n 0
theorem cs8_zero (n i : Nat) (h : i < (cs8 (zs n)).toArray.size) : (cs8 (zs n)).toArray[i] = B8 0 := by simp [cs8]
theorem made_const (Z : Array Value) (u : Value) (hs : 0 < Z.size) (hz : ∀ i (h : i < Z.size), Z[i] = u) (n i : Nat) (h : i < (madeCells Z n).size) : (madeCells Z n)[i] = u := by
  have hi : i % Z.size < Z.size := Nat.mod_lt _ hs
  simp only [madeCells, Array.getElem_map, Array.getElem_range]
  rw [getElem!_pos Z (i % Z.size) hi]
  exact hz _ hi
theorem made_zero (n : Nat) : madeCells (Value.agg Tryd.zeroCells82).cells n = (cs8 (zs n)).toArray := by
  rw [zero63]
  have hs : (cs8 (zs 256)).toArray.size = 256 := by rw [List.size_toArray, cs8_length]; exact List.length_replicate
  apply Array.ext
  · rw [size_madeCells, List.size_toArray, cs8_length, List.length_replicate]
  · intro i h1 h2
    exact (made_const (cs8 (zs 256)).toArray (B8 0) (by rw [hs]; omega) (fun i h => cs8_zero 256 i h) n i h1).trans (cs8_zero n i h2).symm
theorem info63f : (Tryd.prog.info? 82).map (fun i => (i.zero, i.size, i.bytes)) = some (some (.agg Tryd.zeroCells82), 256, 256) := by kernel_rfl
/-- make([]sector, n). -/
theorem run_make63 (w : World) (n : Nat) (hn : n ≤ 16384) : (Instr.makeSlice 58 (.int .i64 (n : Int)) (.int .i64 (n : Int))).run Tryd.prog w = .ok (.slice (some ⟨w.heap.size, 0, none⟩) n n) (w.alloc (.cells (cs8 (zs (n * 256))).toArray 82)) := by
  obtain ⟨i, hi, hz0, hz1, hz2⟩ := info_parts info63f
  have hr := run_make (P := Tryd.prog) w 58 82 i _ Tryd.underlying58 hi hz0 .i64 .i64 n n (by omega) (Int.le_refl _) (by rw [hz2]; omega) (by omega)
  rw [hr, hz1, made_zero]
  simp
section
variable {w : World} {p s m : Nat} {B : List UInt8} {C : Ca}

/-- A disk that New has laid. -/
def nw (w : World) (n : Nat) : World := ((w.alloc (.cells (cs8 (zs (n * 256))).toArray 82)).alloc (.map #[] 0)).alloc (.cells #[.slice (some ⟨w.heap.size, 0, none⟩) n n, .map (some (w.heap.size + 1))] 61)
theorem nw_dk (w : World) (n : Nat) (h0 : 0 < n) (h1 : n ≤ 16384) : Dk (nw w n) (w.heap.size + 2) w.heap.size (w.heap.size + 1) (zs (n * 256)) (noC n) := by
  have a1 : (w.alloc (.cells (cs8 (zs (n * 256))).toArray 82)).heap.size = w.heap.size + 1 := by simp
  have a2 : ((w.alloc (.cells (cs8 (zs (n * 256))).toArray 82)).alloc (.map #[] 0)).heap.size = w.heap.size + 2 := by simp
  have hs : (nw w n).heap[w.heap.size]? = some (.cells (cs8 (zs (n * 256))).toArray 82 (0, 0)) := by
    unfold nw
    rw [Below.heap_alloc _ _ _ (by rw [a2]; omega), Below.heap_alloc _ _ _ (by rw [a1]; omega)]
    exact heap_alloc_new w _
  have hm : (nw w n).heap[w.heap.size + 1]? = some (.map #[] 0) := by
    unfold nw
    rw [Below.heap_alloc _ _ _ (by rw [a2]; omega), ← a1]
    exact heap_alloc_new _ _
  have hp : (nw w n).heap[w.heap.size + 2]? = some (.cells #[.slice (some ⟨w.heap.size, 0, none⟩) n n, .map (some (w.heap.size + 1))] 61 (0, 0)) := by
    unfold nw
    rw [← a2]
    exact heap_alloc_new _ _
  refine ⟨⟨n, by simp [noC], by omega, by simpa [noC] using hp⟩, ⟨[], 82, by simpa using hs⟩, ⟨0, #[], 0, hm, ⟨by simp, MapKept.stamped_empty 0, by simp⟩, by simp, by rw [dat_noC]; rfl⟩, by simp [noC]; omega, ?_, by simpa [noC] using h0, by simpa [noC] using h1, by omega⟩
  intro x hx
  cases List.eq_of_mem_replicate hx
theorem nw_below (w : World) (n : Nat) : Below w.heap.size w (nw w n) := bl_alloc (bl_alloc (bl_alloc (bl0 w) _) _) _

set_option maxRecDepth 100000 in
theorem new_ok (w : World) (n : Nat) (h0 : 0 < n) (h1 : n ≤ 16384) : Calls Tryd.prog 7 #[.int .i64 (n : Int)] w fun e w' => e = .returned (.tuple #[ptr (w.heap.size + 2), .int .i64 0]) ∧ w' = nw w n := by
  have hmk := run_make63 w n h1
  have hmm := @run_makeMap Tryd.prog
  generalize hx : (cs8 (zs (n * 256))).toArray = X at hmk
  have HX := Lib.hid hx
  clear hx
  go_enter Tryd.func7, Tryd.ntmps7
  go_wp2
  go_ret2
  unfold nw
  rw [HX.out]
  exact ⟨rfl, rfl⟩
theorem new_bad (w : World) (n : Int) (h : ¬ (1 ≤ n ∧ n ≤ 16384)) : Calls Tryd.prog 7 #[.int .i64 n] w fun e w' => e = .returned (.tuple #[.pointer none, .int .i64 2]) ∧ w' = w := by
  by_cases h1 : n < 1
  · clear h
    go_enter Tryd.func7, Tryd.ntmps7
    go_wp2
    go_ret2
    exact ⟨rfl, rfl⟩
  · have h2 : n > 16384 := by omega
    clear h
    go_enter Tryd.func7, Tryd.ntmps7
    go_wp2
    go_ret2
    exact ⟨rfl, rfl⟩
end
end Go.Proofs.YtdfihpnmiiaflaaDoor
end
