/- Texts of this claim, one behind the other: DFd, DFf, DFg, DFe, DShelf, DCh, DFi. -/
import Derived.Test.YtgpfognglpfmoaaGreatDoorZ18
import Derived.Test.YtgpfognglpfmoaaGreatDoorProg
import Derived.Test.YtgpfognglpfmoaaGreatDoorZ06
import Derived.Shelf.SlIterI.Keys
import Derived.Shelf.SlIterI.Sorted
import Derived.Shelf.SortM.Plain
import Derived.Shelf.SortM.SortNone
set_option linter.unusedSimpArgs false
set_option linter.unusedVariables false
section
/- Write that may not be; Read. -/
namespace Go.Proofs.YtgpfognglpfmoaaGreatDoor
set_option linter.unusedSimpArgs false
set_option linter.unusedVariables false
open Go.RowKit Go.Maps

section
variable {w : World} {p s m : Nat} {B : List UInt8} {C : Ca}

theorem write_bad (h : Dk w p s m B C) (i : Int) {A : Option Addr} {n c : Nat} (hb : ¬ (0 ≤ i ∧ i < C.length ∧ n = 256)) :
    Calls Tryz.prog 41 #[ptr p, .int .i64 i, .slice A n c] w fun e w' => e = .returned (.int .i64 2) ∧ w' = w := by
  have HM := Lib.hid (made_any h)
  have HH := has_any h i
  clear h
  by_cases hi : 0 ≤ i ∧ i < C.length
  · have hn : ¬ (n : Int) = 256 := fun e => hb ⟨hi.1, hi.2, by omega⟩
    rw [decide_eq_true hi] at HH
    have HH := Lib.hid HH
    clear hb hi
    go_enter Tryz.func41, Tryz.ntmps41
    go_wp2_with (first | (go_at_call 70; refine HM.out.mono ?_; rintro e w' ⟨rfl, rfl⟩) | (go_at_call 80; refine HH.out.mono ?_; rintro e w' ⟨rfl, rfl⟩))
    go_ret
    exact ⟨rfl, rfl⟩
  · rw [decide_eq_false hi] at HH
    have HH := Lib.hid HH
    clear hb hi
    go_enter Tryz.func41, Tryz.ntmps41
    go_wp2_with (first | (go_at_call 70; refine HM.out.mono ?_; rintro e w' ⟨rfl, rfl⟩) | (go_at_call 80; refine HH.out.mono ?_; rintro e w' ⟨rfl, rfl⟩))
    go_ret
    exact ⟨rfl, rfl⟩
theorem write_nil (w : World) (i : Value) (v : Value) : Calls Tryz.prog 41 #[.pointer none, i, v] w fun e w' => e = .returned (.int .i64 1) ∧ w' = w := by
  go_enter Tryz.func41, Tryz.ntmps41
  go_wp2_with (go_at_call 70; refine (made_nil _).mono ?_; rintro e w' ⟨rfl, rfl⟩)
  go_ret
  exact ⟨rfl, rfl⟩
theorem dread_nil (w : World) (i : Value) : Calls Tryz.prog 82 #[.pointer none, i] w fun e w' => e = .returned (.tuple #[.slice none 0 0, .int .i64 1]) ∧ w' = w := by
  go_enter Tryz.func82, Tryz.ntmps82
  go_wp2_with (go_at_call 70; refine (made_nil _).mono ?_; rintro e w' ⟨rfl, rfl⟩)
  go_ret2
  exact ⟨rfl, rfl⟩
theorem read_bad (h : Dk w p s m B C) (i : Int) (hb : ¬ (0 ≤ i ∧ i < C.length)) :
    Calls Tryz.prog 82 #[ptr p, .int .i64 i] w fun e w' => e = .returned (.tuple #[.slice none 0 0, .int .i64 2]) ∧ w' = w := by
  have HM := Lib.hid (made_any h)
  have HH := has_any h i
  clear h
  rw [decide_eq_false hb] at HH
  have HH := Lib.hid HH
  clear hb
  go_enter Tryz.func82, Tryz.ntmps82
  go_wp2_with (first | (go_at_call 70; refine HM.out.mono ?_; rintro e w' ⟨rfl, rfl⟩) | (go_at_call 80; refine HH.out.mono ?_; rintro e w' ⟨rfl, rfl⟩))
  go_ret2
  exact ⟨rfl, rfl⟩

theorem look_some {i : Nat} {x : List UInt8} (h : C.getD i none = some x) : look B C i = x := by unfold look; rw [h]; rfl
theorem look_none {i : Nat} (h : C.getD i none = none) : look B C i = sect B i := by unfold look; rw [h]; rfl
/-- What lies in a block that does not change reads as it did. -/
theorem Rd.kpN {w' : World} {may : Nat → Prop} {top g n c : Nat} {l : List UInt8} (h : Rd w top (some ⟨g, 0, none⟩) n c l) (hk : Kp may w w') (hg : g < w.heap.size) (hm : ¬ may g) : Rd w' top (some ⟨g, 0, none⟩) n c l :=
  ⟨h.1, h.2.1, fun hn => by
    obtain ⟨ad, e, hb, hc⟩ := h.2.2 hn
    injection e with e
    subst e
    exact ⟨_, rfl, hb, fun j u hu => (hk.cell (by rw [add_block]; exact hg) (by rw [add_block]; exact hm)).trans (hc j u hu)⟩⟩
/-- A new variable of an array's type. -/
theorem wpList_alloc_dz {ops : Array Oper} {rest : List Oper} {o : Oper} {a : Act} {Q : Exit → Act → World → Prop} (hgd : o.guard = none) (T : TypeId) (ho : o.op = .alloc T) (z : List Value) (hz : ∀ w, (zeroValue T).run Tryz.prog w = .ok (.agg z.toArray) w)
    (h : wpList Tryz.prog ops Q rest (a.put o.dst (.pointer (some ⟨w.heap.size, 0, none⟩))) (w.alloc (.cells z.toArray T))) : wpList Tryz.prog ops Q (o :: rest) a w := by
  refine wpList_plain hgd fun K hK => ?_
  unfold Oper.wp execOp
  simp only [ho, Sem.run_bind, hz, Result.andThen_ok, Sem.run_pure, go_sem]
  exact hK _ _ h
theorem zero63L : ∀ w, (zeroValue 120).run Tryz.prog w = .ok (.agg (cs8 (List.replicate 256 0)).toArray) w := fun w => by
  have := Tryz.zeroValue120 w
  rw [zero63] at this
  exact this
theorem info63 : (Tryz.prog.info? 120).map (·.size) = some 256 := by kernel_rfl
theorem setRow_new (w : World) (Z cs : Array Value) (t : TypeId) : (w.alloc (.cells Z t)).setRow w.heap.size cs = w.alloc (.cells cs t) := by
  have h : ((w.heap.push (.cells Z t)).modify w.heap.size fun o => match o with | .cells _ t fr => .cells cs t fr | o => o) = w.heap.push (.cells cs t) := by
    apply Array.ext
    · simp
    · intro i h1 h2
      rw [Array.getElem_modify]
      by_cases hi : w.heap.size = i
      · subst hi; simp
      · rw [if_neg hi]
        simp only [Array.size_modify, Array.size_push] at h1
        rw [Array.getElem_push_lt (by omega), Array.getElem_push_lt (by omega)]
  exact congrArg (fun h => ({ w with heap := h } : World)) h
/-- A sector stored into the newest variable. -/
theorem wpList_store_fresh {ops : Array Oper} {rest : List Oper} {o : Oper} {a : Act} {Q : Exit → Act → World → Prop} {Z : List UInt8} {t : TypeId} (hgd : o.guard = none) (x y : Operand) (ho : o.op = .store 120 x y)
    (hx : a.eval x = .pointer (some ⟨w.heap.size, 0, none⟩)) {l : List UInt8} (hy : a.eval y = sec l) (hZ : Z.length = 256) (hl : l.length = 256)
    (h : wpList Tryz.prog ops Q rest (a.put o.dst undef) (w.alloc (.cells (cs8 l).toArray t))) : wpList Tryz.prog ops Q (o :: rest) a (w.alloc (.cells (cs8 Z).toArray t)) := by
  refine wpList_plain hgd fun K hK => wp_store_row 120 x y ho w.heap.size (cs8 l).toArray hx hy t (cs8 Z).toArray (heap_alloc_new w _) (by rw [info63]; simp [cs8_length, hl]) (by simp [cs8_length, hZ, hl]) (all_oneCell_toArray (cs8_one l)) ?_
  rw [setRow_new]
  exact hK _ _ h
/-- A sector, loaded. -/
theorem wpList_load_sec {ops : Array Oper} {rest : List Oper} {o : Oper} {a : Act} {Q : Exit → Act → World → Prop} (hgd : o.guard = none) (x : Operand) (ho : o.op = .load 120 x)
    {ad : Addr} (hx : a.eval x = .pointer (some ad)) {l : List UInt8} (hl : l.length = 256) (hc : ∀ j u, l[j]? = some u → w.cell? (ad.add j) = some (B8 u))
    (h : wpList Tryz.prog ops Q rest (a.put o.dst (sec l)) w) : wpList Tryz.prog ops Q (o :: rest) a w := by
  refine wpList_plain hgd fun K hK => ?_
  unfold Oper.wp
  rw [exec_load_sec ho hx hl hc]
  exact hK _ _ h
theorem Bd.cells (h : Bd w s B) {i : Nat} : ∀ j u, (sect B i)[j]? = some u → w.cell? ((⟨s, i * 256, none⟩ : Addr).add j) = some (B8 u) := by
  intro j u hu
  rw [Addr.add_mid, Nat.mul_comm]
  simp only [sect, List.getElem?_take] at hu
  split at hu
  · exact h.cell (by rw [← hu, List.getElem?_drop])
  · cases hu
theorem Dk.bound (h : Dk w p s m B C) {i : Nat} (hi : i < C.length) : 256 * i + 256 ≤ B.length := by have := h.hB; omega

set_option maxRecDepth 100000 in
theorem read_ok (h : Dk w p s m B C) (i : Nat) (hi : i < C.length) :
    Calls Tryz.prog 82 #[ptr p, .int .i64 (i : Int)] w fun e w' => e = .returned (.tuple #[.slice (some ⟨w.heap.size, 0, none⟩) 256 256, .int .i64 0]) ∧ Rd w' w'.heap.size (some ⟨w.heap.size, 0, none⟩) 256 256 (look B C i) ∧ Below w.heap.size w w' := by
  have HM := Lib.hid (made_any h)
  have HH := has_any h (i : Int)
  rw [decide_eq_true ⟨by omega, by omega⟩] at HH
  have HH := Lib.hid HH
  have HD := Lib.hid h
  have h1 := h.h1
  obtain ⟨cap, hc, hc2, c0, c1⟩ := h.c0
  have d0 : ∀ o, (w.alloc o).cell? ⟨p, 0, none⟩ = some (.slice (some ⟨s, 0, none⟩) C.length cap) := fun o => by rw [World.cell?_of_block (Below.heap_alloc w o p h.plt)]; exact c0
  have hlk := h.look_ok (i := i) (by omega)
  have HV := Lib.hid (valAt_len h.hC i)
  have HL := Lib.hid (look_len h.hC (h.bound hi))
  have HZ : (List.replicate 256 (0 : UInt8)).length = 256 := List.length_replicate
  have fin : ∀ (W : World), W = w.alloc (.cells (cs8 (look B C i)).toArray 120) → Rd W W.heap.size (some ⟨w.heap.size, 0, none⟩) 256 256 (look B C i) ∧ Below w.heap.size w W := by
    rintro W rfl
    have hl := look_len h.hC (h.bound hi)
    have := Rd.of_block (heap_alloc_new w (.cells (cs8 (look B C i)).toArray 120)) (top := (w.alloc (.cells (cs8 (look B C i)).toArray 120)).heap.size) (by simp)
    rw [hl] at this
    exact ⟨this, bl_alloc (bl0 w) _⟩
  cases hg : C.getD i none with
  | some x =>
    rw [hg] at hlk
    have e1 : valAt C i = look B C i := by rw [val_some hg, look_some hg]
    rw [e1] at hlk HV
    clear h hg e1
    have FIN := Lib.hid fin
    clear fin
    generalize look B C i = L at *
    go_enter Tryz.func82, Tryz.ntmps82
    go_wp2_with (first | (go_at_call 70; refine HM.out.mono ?_; rintro e w' ⟨rfl, rfl⟩) | (go_at_call 80; refine HH.out.mono ?_; rintro e w' ⟨rfl, rfl⟩) | (refine wpList_alloc_dz rfl 120 rfl _ zero63L ?_) | (refine wpList_store_fresh rfl _ _ rfl rfl rfl HZ HL.out ?_))
    go_ret2
    obtain ⟨r1, r2⟩ := FIN.out _ rfl
    exact ⟨rfl, r1, r2⟩
  | none =>
    rw [hg] at hlk
    have e1 := look_none (B := B) hg
    have HB : ∀ o, Hid (∀ j u, (look B C i)[j]? = some u → (w.alloc o).cell? ((⟨s, i * 256, none⟩ : Addr).add j) = some (B8 u)) := fun o => Lib.hid (by
      rw [e1]
      exact ((h.old (bl_alloc (bl0 w) o)).hs).cells)
    clear h hg e1
    have FIN := Lib.hid fin
    clear fin
    generalize look B C i = L at *
    generalize valAt C i = V at *
    go_enter Tryz.func82, Tryz.ntmps82
    go_wp2_with (first | (go_at_call 70; refine HM.out.mono ?_; rintro e w' ⟨rfl, rfl⟩) | (go_at_call 80; refine HH.out.mono ?_; rintro e w' ⟨rfl, rfl⟩) | (refine wpList_alloc_dz rfl 120 rfl _ zero63L ?_) | (refine wpList_store_fresh rfl _ _ rfl rfl rfl HZ HV.out ?_) | (refine wpList_store_fresh rfl _ _ rfl rfl rfl HV.out HL.out ?_) | (refine wpList_load_sec rfl _ rfl rfl HL.out (HB _).out ?_))
    go_ret2
    obtain ⟨r1, r2⟩ := FIN.out _ rfl
    exact ⟨rfl, r1, r2⟩
end
end Go.Proofs.YtgpfognglpfmoaaGreatDoor
end
section
/- A sector of one byte; what an act writes; a number modulo another one. -/
namespace Go.Proofs.YtgpfognglpfmoaaGreatDoor
set_option maxRecDepth 8192
set_option linter.unusedSimpArgs false
set_option linter.unusedVariables false
open Go.RowKit Go.Maps

/-- n modulo m, from 0 on. -/
def pickN (n m : Int) : Nat := (if n.tmod m < 0 then n.tmod m + m else n.tmod m).toNat
theorem pickN_lt (n m : Int) (hm : 1 ≤ m) : (pickN n m : Int) < m := by
  have h1 : -m < n.tmod m := Int.lt_tmod_of_pos n (show (0 : Int) < m by omega)
  have h2 : n.tmod m < m := Int.tmod_lt_of_pos n (by omega)
  unfold pickN
  split <;> omega
theorem pick_any (w : World) (n m : Int) (hm : 1 ≤ m) (hm2 : m ≤ 1000) :
    Calls Tryz.prog 19 #[.int .i64 n, .int .i64 m] w fun e w' => e = .returned (.int .i64 (pickN n m : Int)) ∧ w' = w := by
  have h1 : -m < n.tmod m := Int.lt_tmod_of_pos n (show (0 : Int) < m by omega)
  have h2 : n.tmod m < m := Int.tmod_lt_of_pos n (by omega)
  by_cases hs : n.tmod m < 0
  · go_enter Tryz.func19, Tryz.ntmps19
    go_wp2
    go_ret
    refine ⟨?_, rfl⟩
    rw [pickN, if_pos hs, Int.toNat_of_nonneg (by omega)]
    rfl
  · go_enter Tryz.func19, Tryz.ntmps19
    go_wp2
    go_ret
    refine ⟨?_, rfl⟩
    rw [pickN, if_neg (by omega), Int.toNat_of_nonneg (by omega)]
    rfl

/-- A block of one's own that holds bytes. -/
def Row (w : World) (g : Nat) (l : List UInt8) : Prop := w.heap[g]? = some (.cells (cs8 l).toArray 5 (0, 0))
section
variable {w w' : World} {g : Nat} {l : List UInt8}
theorem Row.lt (h : Row w g l) : g < w.heap.size := (Array.getElem?_eq_some_iff.1 h).1
theorem Row.cell (h : Row w g l) {j : Nat} {b : UInt8} (hj : l[j]? = some b) : w.cell? ⟨g, j, none⟩ = some (B8 b) := by
  rw [cell_of_row w g j _ 5 (0, 0) h]
  simp [cs8, hj]
theorem Row.frozen (h : Row w g l) (j : Nat) : w.frozen? ⟨g, j, none⟩ = false := by
  unfold Row at h
  simp [World.frozen?, h]
theorem Row.of (h : Row w g l) (e : w'.heap[g]? = w.heap[g]?) : Row w' g l := e.trans h
theorem Row.set (h : Row w g l) (i : Nat) (b : UInt8) : Row (w.setCell ⟨g, i, none⟩ (B8 b)) g (l.set i b) := by
  unfold Row at h ⊢
  simp only [World.setCell, Array.getElem?_modify, if_pos trivial, if_true, h, Option.map_some]
  simp [cs8, List.map_set]
theorem Row.rd (h : Row w g l) : Rd w w.heap.size (some ⟨g, 0, none⟩) l.length l.length l := Rd.of_block h (Array.getElem?_eq_some_iff.1 h).1
theorem Row.ow (h : Row w g l) {base : Nat} (hb : base ≤ g) (hl : l.length ≤ 4294967296) : Ow w base (.slice (some ⟨g, 0, none⟩) l.length l.length) l :=
  ⟨by rw [cs8_length, Nat.mul_one], .inr ⟨g, l.length, _, rfl, hb, h, Nat.le_refl _, by simp only [maxLen]; omega, by simp [cs8_length], by rw [Nat.mul_one, ← cs8_length l]; simp⟩⟩
theorem bl_set {w0 : World} (h : Below w0.heap.size w0 w) (hg : w0.heap.size ≤ g) (o : Nat) (u : Value) : Below w0.heap.size w0 (w.setCell ⟨g, o, none⟩ u) := bl_only h (Only.set w o u) hg
end

theorem made8 (n : Nat) : madeCells (Value.int .u8 0).cells n = (cs8 (List.replicate n 0)).toArray := by
  apply Array.ext
  · rw [size_madeCells, List.size_toArray, cs8_length, List.length_replicate]
  · intro i h1 h2
    simp only [madeCells, Array.getElem_map, List.getElem_toArray, cs8, List.getElem_map, List.getElem_replicate]
    simp [Value.cells, Nat.mod_one, B8]
theorem run_make8 (w : World) (n : Nat) (hn : n ≤ 4194304) : (Instr.makeSlice 31 (.int .i64 (n : Int)) (.int .i64 (n : Int))).run Tryz.prog w = .ok (.slice (some ⟨w.heap.size, 0, none⟩) n n) (w.alloc (.cells (cs8 (List.replicate n 0)).toArray 5)) := by
  obtain ⟨i, hi, hz0, hz1, hz2⟩ := info_parts info_u8
  have hr := run_make (P := Tryz.prog) w 31 5 i _ Tryz.underlying31 hi hz0 .i64 .i64 n n (by omega) (Int.le_refl _) (by rw [hz2]; omega) (by omega)
  rw [hr, hz1, Nat.mul_one, made8]
  simp

theorem le_refl_hs (w : World) : w.heap.size ≤ w.heap.size := Nat.le_refl _
end Go.Proofs.YtgpfognglpfmoaaGreatDoor
end
section
/- Image: the bytes of all sectors, one behind the other. -/
namespace Go.Proofs.YtgpfognglpfmoaaGreatDoor
set_option linter.unusedSimpArgs false
set_option linter.unusedVariables false
open Go.RowKit Go.Maps

section
variable {w : World} {p s m : Nat} {B : List UInt8} {C : Ca}

theorem take_sect (B : List UInt8) (i : Nat) : B.take (256 * i) ++ sect B i = B.take (256 * (i + 1)) := by
  rw [sect, show 256 * (i + 1) = 256 * i + 256 by omega, List.take_add]
theorem Bd.rd (h : Bd w s B) {i : Nat} {top : Nat} (hi : 256 * i + 256 ≤ B.length) (ht : s < top) : Rd w top (some ⟨s, i * 256, none⟩) 256 256 (sect B i) :=
  ⟨sect_len hi, Nat.le_refl _, fun _ => ⟨_, rfl, ht, h.cells⟩⟩

theorem Ow.base {v : Value} {base : Nat} {l : List UInt8} (h : Ow w base v l) : ∀ r, v.ownBlock = some r → base ≤ r := by
  intro r hr
  rcases h.2 with ⟨rfl, _⟩ | ⟨g, cap, cur, rfl, hb, _⟩
  · cases hr
  · simp only [Value.ownBlock, Option.some.injEq] at hr
    omega
set_option maxRecDepth 100000 in
theorem image_any (h : Dk w p s m B C) : Calls Tryz.prog 38 #[ptr p] w fun e w' => ∃ v, e = .returned v ∧ Ow w' w.heap.size v B ∧ Below w.heap.size w w' := by
  have HM := Lib.hid (made_any h)
  have HD := Lib.hid h
  have h0 := h.h0
  have h1 := h.h1
  have HBL := Lib.hid h.hB
  have HP := Lib.hid h.plt
  have HSL := Lib.hid h.slt
  obtain ⟨cap, hc, hc2, c0, c1⟩ := h.c0
  have HC := Lib.hid c0
  clear h
  go_enter Tryz.func38, Tryz.ntmps38
  go_wp2_with (first | (go_at_call 70; refine HM.out.mono ?_; rintro e w' ⟨rfl, rfl⟩) | (refine wpList_make rfl _ _ rfl ((C.length : Int) * 256) rfl rfl (by omega) (by omega) (Nat.le_refl _) ?_; intro v1 w1 ho1 hb1 hs1; have c2 : w1.cell? ⟨p, 0, none⟩ = some (.slice (some ⟨s, 0, none⟩) C.length cap) := (hb1.cell HP.out).trans HC.out; have HO1 := Lib.hid ho1; have HB1 := Lib.hid hb1; clear ho1 hb1 hs1))
  clear c2
  go_loopw [3, 20] (fun v i' wr => ∃ i : Nat, i ≤ C.length ∧ i' = .int .i64 (i : Int) ∧ Hid (Ow wr w'.heap.size v (B.take (256 * i))) ∧ Hid (Below w'.heap.size w' wr)) (fun _ i' _ => C.length - (RowKit.intOf i').toNat)
  case atStart => exact ⟨0, by omega, rfl, by simpa using HO1, HB1⟩
  case round =>
    clear HO1 HB1
    obtain ⟨i, hi, rfl, HO, HB⟩ := hrel
    have c2 : wr.cell? ⟨p, 0, none⟩ = some (.slice (some ⟨s, 0, none⟩) C.length cap) := (HB.out.cell HP.out).trans HC.out
    by_cases hlt : i < C.length
    · have HR : Hid (Rd wr wr.heap.size (some ⟨s, i * 256, none⟩) 256 256 (sect B i)) := Lib.hid ((HD.out.hs.kept (HB.out.block s HSL.out)).rd (by have := HBL.out; omega) (by have := HB.out.size; have := HSL.out; omega))
      have HZ := Lib.hid HB.out.size
      have HL : Hid ((B.take (256 * i)).length = 256 * i) := Lib.hid (by rw [List.length_take]; have := HBL.out; omega)
      have HT := Lib.hid (take_sect B i)
      go_wp2_with (first | (refine wpList_app rfl _ _ rfl rfl HO.out rfl HR.out (by have := HL.out; omega) HZ.out ?_; intro v2 w2 ho2 hg2 hl2; have HO2 := Lib.hid ho2; have HB2 := Lib.hid (HB.out.grown hg2 HB.out.size HO.out.base); clear ho2 hg2 hl2) | fail)
      go_roundw
      case rel => exact ⟨i + 1, by omega, by go_num, by rw [← HT.out]; exact HO2, HB2⟩
      case measure => simp [RowKit.intOf]; omega
    · obtain rfl : i = C.length := by omega
      go_wp2
      go_ret
      have := HO.out
      rw [List.take_of_length_le (by have := HBL.out; omega)] at this
      exact ⟨_, rfl, this, HB.out⟩
end
end Go.Proofs.YtgpfognglpfmoaaGreatDoor
end
section
/- New. -/
namespace Go.Proofs.YtgpfognglpfmoaaGreatDoor
set_option linter.unusedSimpArgs false
set_option linter.unusedVariables false
open Go.RowKit Go.Maps

/-- Noughts. -/
abbrev zs (n : Nat) : List UInt8 := List.replicate n 0
theorem cs8_zero (n i : Nat) (h : i < (cs8 (zs n)).toArray.size) : (cs8 (zs n)).toArray[i] = B8 0 := by simp [cs8]
theorem made_const (Z : Array Value) (u : Value) (hs : 0 < Z.size) (hz : ∀ i (h : i < Z.size), Z[i] = u) (n i : Nat) (h : i < (madeCells Z n).size) : (madeCells Z n)[i] = u := by
  have hi : i % Z.size < Z.size := Nat.mod_lt _ hs
  simp only [madeCells, Array.getElem_map, Array.getElem_range]
  rw [getElem!_pos Z (i % Z.size) hi]
  exact hz _ hi
theorem made_zero (n : Nat) : madeCells (Value.agg Tryz.zeroCells120).cells n = (cs8 (zs n)).toArray := by
  rw [zero63]
  have hs : (cs8 (zs 256)).toArray.size = 256 := by rw [List.size_toArray, cs8_length]; exact List.length_replicate
  apply Array.ext
  · rw [size_madeCells, List.size_toArray, cs8_length, List.length_replicate]
  · intro i h1 h2
    exact (made_const (cs8 (zs 256)).toArray (B8 0) (by rw [hs]; omega) (fun i h => cs8_zero 256 i h) n i h1).trans (cs8_zero n i h2).symm
theorem info63f : (Tryz.prog.info? 120).map (fun i => (i.zero, i.size, i.bytes)) = some (some (.agg Tryz.zeroCells120), 256, 256) := by kernel_rfl
/-- make([]sector, n). -/
theorem run_make63 (w : World) (n : Nat) (hn : n ≤ 16384) : (Instr.makeSlice 76 (.int .i64 (n : Int)) (.int .i64 (n : Int))).run Tryz.prog w = .ok (.slice (some ⟨w.heap.size, 0, none⟩) n n) (w.alloc (.cells (cs8 (zs (n * 256))).toArray 120)) := by
  obtain ⟨i, hi, hz0, hz1, hz2⟩ := info_parts info63f
  have hr := run_make (P := Tryz.prog) w 76 120 i _ Tryz.underlying76 hi hz0 .i64 .i64 n n (by omega) (Int.le_refl _) (by rw [hz2]; omega) (by omega)
  rw [hr, hz1, made_zero]
  simp
section
variable {w : World} {p s m : Nat} {B : List UInt8} {C : Ca}

/-- A disk that New has laid. -/
def nw (w : World) (n : Nat) : World := ((w.alloc (.cells (cs8 (zs (n * 256))).toArray 120)).alloc (.map #[] 0)).alloc (.cells #[.slice (some ⟨w.heap.size, 0, none⟩) n n, .map (some (w.heap.size + 1))] 79)
theorem nw_dk (w : World) (n : Nat) (h0 : 0 < n) (h1 : n ≤ 16384) : Dk (nw w n) (w.heap.size + 2) w.heap.size (w.heap.size + 1) (zs (n * 256)) (noC n) := by
  have a1 : (w.alloc (.cells (cs8 (zs (n * 256))).toArray 120)).heap.size = w.heap.size + 1 := by simp
  have a2 : ((w.alloc (.cells (cs8 (zs (n * 256))).toArray 120)).alloc (.map #[] 0)).heap.size = w.heap.size + 2 := by simp
  have hs : (nw w n).heap[w.heap.size]? = some (.cells (cs8 (zs (n * 256))).toArray 120 (0, 0)) := by
    unfold nw
    rw [Below.heap_alloc _ _ _ (by rw [a2]; omega), Below.heap_alloc _ _ _ (by rw [a1]; omega)]
    exact heap_alloc_new w _
  have hm : (nw w n).heap[w.heap.size + 1]? = some (.map #[] 0) := by
    unfold nw
    rw [Below.heap_alloc _ _ _ (by rw [a2]; omega), ← a1]
    exact heap_alloc_new _ _
  have hp : (nw w n).heap[w.heap.size + 2]? = some (.cells #[.slice (some ⟨w.heap.size, 0, none⟩) n n, .map (some (w.heap.size + 1))] 79 (0, 0)) := by
    unfold nw
    rw [← a2]
    exact heap_alloc_new _ _
  refine ⟨⟨n, by simp [noC], by omega, by simpa [noC] using hp⟩, ⟨[], 120, by simpa using hs⟩, ⟨0, #[], 0, hm, ⟨by simp, MapKept.stamped_empty 0, by simp⟩, by simp, by rw [dat_noC]; rfl⟩, by simp [noC]; omega, ?_, by simpa [noC] using h0, by simpa [noC] using h1, by omega⟩
  intro x hx
  cases List.eq_of_mem_replicate hx
theorem nw_below (w : World) (n : Nat) : Below w.heap.size w (nw w n) := bl_alloc (bl_alloc (bl_alloc (bl0 w) _) _) _

set_option maxRecDepth 100000 in
theorem new_ok (w : World) (n : Nat) (h0 : 0 < n) (h1 : n ≤ 16384) : Calls Tryz.prog 7 #[.int .i64 (n : Int)] w fun e w' => e = .returned (.tuple #[ptr (w.heap.size + 2), .int .i64 0]) ∧ w' = nw w n := by
  have hmk := run_make63 w n h1
  have hmm := @run_makeMap Tryz.prog
  generalize hx : (cs8 (zs (n * 256))).toArray = X at hmk
  have HX := Lib.hid hx
  clear hx
  go_enter Tryz.func7, Tryz.ntmps7
  go_wp2
  go_ret2
  unfold nw
  rw [HX.out]
  exact ⟨rfl, rfl⟩
theorem new_bad (w : World) (n : Int) (h : ¬ (1 ≤ n ∧ n ≤ 16384)) : Calls Tryz.prog 7 #[.int .i64 n] w fun e w' => e = .returned (.tuple #[.pointer none, .int .i64 2]) ∧ w' = w := by
  by_cases h1 : n < 1
  · clear h
    go_enter Tryz.func7, Tryz.ntmps7
    go_wp2
    go_ret2
    exact ⟨rfl, rfl⟩
  · have h2 : n > 16384 := by omega
    clear h
    go_enter Tryz.func7, Tryz.ntmps7
    go_wp2
    go_ret2
    exact ⟨rfl, rfl⟩
end
end Go.Proofs.YtgpfognglpfmoaaGreatDoor
end
section
/-
  The library contracts that this dump uses, laid: maps.Keys, slices.Sorted, slices.Sort, maps.Clone, slices.Clone.
-/
namespace Go.Proofs
open Go.Shelf
def Tryz.keysA_ren : Go.Shelf.Ren := ⟨fun | 7 => 79 | 10 => 109 | n => n, fun | 23 => 77 | 26 => 3 | 3 => 120 | 28 => 117 | 0 => 0 | 27 => 116 | 33 => 121 | 4 => 4 | n => n, fun | n => n⟩
theorem Tryz.keysA : Go.Proofs.SlLaysZI.n7 Tryz.prog Tryz.keysA_ren := {
  mixed := by kernel_rfl
  f7 := ⟨Tryz.f79.name, by decide, Tryz.func79.trans (congrArg some (by kernel_rfl))⟩
  f10 := ⟨Tryz.f109.name, by decide, Tryz.func109.trans (congrArg some (by kernel_rfl))⟩
  t0 := Tryz.underlying0
  a0 := Tryz.isAgg0
  z0 := Tryz.sizeOf0
  v0 := Tryz.zeroValue0
  t4 := Tryz.underlying4
  a4 := Tryz.isAgg4
  z4 := Tryz.sizeOf4
  v4 := Tryz.zeroValue4
  t23 := Tryz.underlying77
  a23 := Tryz.isAgg77
  z23 := Tryz.sizeOf77
  v23 := Tryz.zeroValue77
  t26 := Tryz.underlying3
  a26 := Tryz.isAgg3
  z26 := Tryz.sizeOf3
  v26 := Tryz.zeroValue3
  t27 := Tryz.underlying116
  a27 := Tryz.isAgg116
  z27 := Tryz.sizeOf116
  v27 := Tryz.zeroValue116
  t28 := Tryz.underlying117
  a28 := Tryz.isAgg117
  z28 := Tryz.sizeOf117
  v28 := Tryz.zeroValue117
  t33 := Tryz.underlying121
  a33 := Tryz.isAgg121
  z33 := Tryz.sizeOf121
  v33 := Tryz.zeroValue121 }
def Tryz.sortedA_ren : Go.Shelf.Ren := ⟨fun | 6 => 78 | 8 => 107 | 9 => 108 | 11 => 137 | 13 => 139 | 12 => 138 | 23 => 164 | 24 => 142 | 14 => 155 | 15 => 156 | 16 => 157 | 17 => 158 | 18 => 159 | 19 => 160 | 20 => 161 | 21 => 162 | 22 => 163 | 25 => 174 | 26 => 175 | 27 => 176 | 28 => 177 | 29 => 178 | 30 => 179 | 31 => 183 | n => n, fun | 26 => 3 | 28 => 117 | 24 => 66 | 0 => 0 | 3 => 3 | 37 => 168 | 48 => 196 | 50 => 40 | 4 => 4 | 40 => 189 | 39 => 188 | 45 => 157 | 5 => 5 | 9 => 9 | 51 => 202 | 55 => 205 | 57 => 210 | 58 => 211 | 33 => 121 | n => n, fun | n => n⟩
theorem Tryz.sortedA : Go.Proofs.SlLaysZI.n6 Tryz.prog Tryz.sortedA_ren := {
  mixed := by kernel_rfl
  f6 := ⟨Tryz.f78.name, by decide, Tryz.func78.trans (congrArg some (by kernel_rfl))⟩
  f8 := ⟨Tryz.f107.name, by decide, Tryz.func107.trans (congrArg some (by kernel_rfl))⟩
  f11 := ⟨Tryz.f137.name, by decide, Tryz.func137.trans (congrArg some (by kernel_rfl))⟩
  t0 := Tryz.underlying0
  a0 := Tryz.isAgg0
  z0 := Tryz.sizeOf0
  v0 := Tryz.zeroValue0
  t24 := Tryz.underlying66
  a24 := Tryz.isAgg66
  z24 := Tryz.sizeOf66
  v24 := Tryz.zeroValue66
  t26 := Tryz.underlying3
  a26 := Tryz.isAgg3
  z26 := Tryz.sizeOf3
  v26 := Tryz.zeroValue3
  t28 := Tryz.underlying117
  a28 := Tryz.isAgg117
  z28 := Tryz.sizeOf117
  v28 := Tryz.zeroValue117
  i26 := by kernel_rfl }
def Tryz.sortA_ren : Go.Shelf.Ren := ⟨fun | 5 => 108 | 8 => 139 | 7 => 138 | 19 => 164 | 20 => 142 | 10 => 155 | 11 => 156 | 12 => 157 | 13 => 158 | 14 => 159 | 15 => 160 | 16 => 161 | 17 => 162 | 18 => 163 | 30 => 174 | 31 => 175 | 32 => 176 | 33 => 177 | 34 => 178 | 35 => 179 | 40 => 183 | n => n, fun | 23 => 66 | 25 => 3 | 3 => 3 | 32 => 168 | 22 => 66 | 0 => 0 | 44 => 196 | 46 => 40 | 4 => 4 | 36 => 189 | 35 => 188 | 41 => 157 | 5 => 5 | 9 => 9 | 53 => 202 | 57 => 205 | 63 => 210 | 64 => 211 | n => n, fun | n => n⟩
theorem Tryz.sortA : Go.Proofs.SlLaysM.n5 Tryz.prog Tryz.sortA_ren := {
  mixed := by kernel_rfl
  f5 := ⟨Tryz.f108.name, by decide, Tryz.func108.trans (congrArg some (by kernel_rfl))⟩
  f7 := ⟨Tryz.f138.name, by decide, Tryz.func138.trans (congrArg some (by kernel_rfl))⟩
  f8 := Tryz.func139.trans (congrArg some (by kernel_rfl))
  f10 := ⟨Tryz.f155.name, by decide, Tryz.func155.trans (congrArg some (by kernel_rfl))⟩
  f11 := ⟨Tryz.f156.name, by decide, Tryz.func156.trans (congrArg some (by kernel_rfl))⟩
  f12 := ⟨Tryz.f157.name, by decide, Tryz.func157.trans (congrArg some (by kernel_rfl))⟩
  f13 := ⟨Tryz.f158.name, by decide, Tryz.func158.trans (congrArg some (by kernel_rfl))⟩
  f14 := ⟨Tryz.f159.name, by decide, Tryz.func159.trans (congrArg some (by kernel_rfl))⟩
  f15 := ⟨Tryz.f160.name, by decide, Tryz.func160.trans (congrArg some (by kernel_rfl))⟩
  f16 := ⟨Tryz.f161.name, by decide, Tryz.func161.trans (congrArg some (by kernel_rfl))⟩
  f17 := ⟨Tryz.f162.name, by decide, Tryz.func162.trans (congrArg some (by kernel_rfl))⟩
  f18 := ⟨Tryz.f163.name, by decide, Tryz.func163.trans (congrArg some (by kernel_rfl))⟩
  f19 := Tryz.func164.trans (congrArg some (by kernel_rfl))
  f20 := Tryz.func142.trans (congrArg some (by kernel_rfl))
  f30 := ⟨Tryz.f174.name, by decide, Tryz.func174.trans (congrArg some (by kernel_rfl))⟩
  f31 := Tryz.func175.trans (congrArg some (by kernel_rfl))
  f32 := Tryz.func176.trans (congrArg some (by kernel_rfl))
  f33 := ⟨Tryz.f177.name, by decide, Tryz.func177.trans (congrArg some (by kernel_rfl))⟩
  f34 := ⟨Tryz.f178.name, by decide, Tryz.func178.trans (congrArg some (by kernel_rfl))⟩
  f35 := ⟨Tryz.f179.name, by decide, Tryz.func179.trans (congrArg some (by kernel_rfl))⟩
  f40 := ⟨Tryz.f183.name, by decide, Tryz.func183.trans (congrArg some (by kernel_rfl))⟩
  t0 := Tryz.underlying0
  a0 := Tryz.isAgg0
  z0 := Tryz.sizeOf0
  v0 := Tryz.zeroValue0
  t3 := Tryz.underlying3
  a3 := Tryz.isAgg3
  z3 := Tryz.sizeOf3
  v3 := Tryz.zeroValue3
  t4 := Tryz.underlying4
  a4 := Tryz.isAgg4
  z4 := Tryz.sizeOf4
  v4 := Tryz.zeroValue4
  t5 := Tryz.underlying5
  a5 := Tryz.isAgg5
  z5 := Tryz.sizeOf5
  v5 := Tryz.zeroValue5
  t9 := Tryz.underlying9
  a9 := Tryz.isAgg9
  z9 := Tryz.sizeOf9
  v9 := Tryz.zeroValue9
  t22 := Tryz.underlying66
  a22 := Tryz.isAgg66
  z22 := Tryz.sizeOf66
  v22 := Tryz.zeroValue66
  t23 := Tryz.underlying66
  a23 := Tryz.isAgg66
  z23 := Tryz.sizeOf66
  v23 := Tryz.zeroValue66
  t25 := Tryz.underlying3
  a25 := Tryz.isAgg3
  z25 := Tryz.sizeOf3
  v25 := Tryz.zeroValue3
  t32 := Tryz.underlying168
  a32 := Tryz.isAgg168
  z32 := Tryz.sizeOf168
  v32 := Tryz.zeroValue168
  t35 := Tryz.underlying188
  a35 := Tryz.isAgg188
  z35 := Tryz.sizeOf188
  v35 := Tryz.zeroValue188
  t36 := Tryz.underlying189
  a36 := Tryz.isAgg189
  z36 := Tryz.sizeOf189
  v36 := Tryz.zeroValue189
  t41 := Tryz.underlying157
  a41 := Tryz.isAgg157
  z41 := Tryz.sizeOf157
  v41 := Tryz.zeroValue157
  t44 := Tryz.underlying196
  a44 := Tryz.isAgg196
  z44 := Tryz.sizeOf196
  v44 := Tryz.zeroValue196
  t46 := Tryz.underlying40
  a46 := Tryz.isAgg40
  z46 := Tryz.sizeOf40
  v46 := Tryz.zeroValue40
  t53 := Tryz.underlying202
  a53 := Tryz.isAgg202
  z53 := Tryz.sizeOf202
  v53 := Tryz.zeroValue202
  t57 := Tryz.underlying205
  a57 := Tryz.isAgg205
  z57 := Tryz.sizeOf205
  v57 := Tryz.zeroValue205
  t63 := Tryz.underlying210
  a63 := Tryz.isAgg210
  z63 := Tryz.sizeOf210
  v63 := Tryz.zeroValue210
  t64 := Tryz.underlying211
  a64 := Tryz.isAgg211
  z64 := Tryz.sizeOf211
  v64 := Tryz.zeroValue211 }
end Go.Proofs
end
section
/- The numbers of the cached sectors, sorted. -/
namespace Go.Proofs.YtgpfognglpfmoaaGreatDoor
set_option maxRecDepth 8192
set_option linter.unusedSimpArgs false
set_option linter.unusedVariables false
open Go.RowKit Go.Maps Go.Sort Go.Shelf

/-- The slice (A, n, c) reads, in w, as the numbers l, and lies from block base on. -/
def Ni (w : World) (base : Nat) (A : Option Addr) (n c : Nat) (l : List Nat) : Prop :=
  l.length = n ∧ n ≤ c ∧ (0 < n → ∃ ad, A = some ad ∧ base ≤ ad.block ∧ ad.block < w.heap.size ∧ ∀ (j u : Nat), l[j]? = some u → w.cell? (ad.add j) = some (.int .i64 (u : Int)))
theorem Ni.nil (w : World) (base c : Nat) (A : Option Addr) : Ni w base A 0 c [] := ⟨rfl, Nat.zero_le _, fun h => absurd h (by omega)⟩
theorem Ni.kp {may : Nat → Prop} {w w' : World} {base : Nat} {A : Option Addr} {n c : Nat} {l : List Nat} (h : Ni w base A n c l) (hk : Kp may w w') (hm : ∀ k, may k → k < base) : Ni w' base A n c l :=
  ⟨h.1, h.2.1, fun hn => by
    obtain ⟨ad, e, hb, ht, hc⟩ := h.2.2 hn
    exact ⟨ad, e, hb, Nat.lt_of_lt_of_le ht hk.size, fun j u hu => (hk.cell (p := ad.add j) (by rw [add_block]; exact ht) (fun h => by have := hm _ h; rw [add_block] at this; omega)).trans (hc j u hu)⟩⟩
theorem Ni.lower {w : World} {base base' : Nat} {A : Option Addr} {n c : Nat} {l : List Nat} (h : Ni w base A n c l) (hb : base' ≤ base) : Ni w base' A n c l :=
  ⟨h.1, h.2.1, fun hn => by
    obtain ⟨ad, e, hb, ht, hc⟩ := h.2.2 hn
    exact ⟨ad, e, by omega, ht, hc⟩⟩
theorem Ni.at_ {w : World} {base : Nat} {A : Option Addr} {n c : Nat} {l : List Nat} (h : Ni w base A n c l) {k : Nat} (hk : k < n) : ∃ ad u, A = some ad ∧ l[k]? = some u ∧ w.cell? (ad.add k) = some (.int .i64 (u : Int)) := by
  obtain ⟨ad, e, hb, ht, hc⟩ := h.2.2 (by omega)
  have hl : k < l.length := by have := h.1; omega
  exact ⟨ad, l[k], e, List.getElem?_eq_getElem hl, hc k _ (List.getElem?_eq_getElem hl)⟩

/-- slices.Sort's two contracts at this dump. -/
theorem sortsA (k : Nat) : AnyZI.SortsIn Tryz.prog Tryz.sortedA_ren Fence.wide k :=
  ⟨fun blk off cap ss W hH hblk hsz => callsIn_wide.2 (AnyM.slices_Sort_int Tryz.sortA blk off cap ss W hH hblk hsz),
   fun p cap W => callsIn_wide.2 (AnyM.slices_Sort_int_none Tryz.sortA p cap W)⟩

theorem ni_of_row {w : World} {base : Nat} {v : Value} {l : List Nat} (h : w.ownsRow base 3 1 v l.length (l.map fun j : Nat => encZ (j : Int))) : ∃ A c, v = .slice A l.length c ∧ Ni w base A l.length c l := by
  rcases h.2 with ⟨rfl, hn⟩ | ⟨g, cap, cur, rfl, hb, hg, hc, _, _, _⟩
  · rw [hn]
    refine ⟨none, 0, rfl, ?_⟩
    rw [List.eq_nil_of_length_eq_zero hn]
    exact Ni.nil _ _ _ _
  · refine ⟨some ⟨g, 0, none⟩, cap, rfl, rfl, hc, fun hn => ⟨_, rfl, hb, (Array.getElem?_eq_some_iff.1 hg).1, fun j u hu => ?_⟩⟩
    exact World.ownsRow.cells h (g := g) rfl j (encZ (u : Int)) (by simp [hu])

section
variable {w : World} {p s m : Nat} {B : List UInt8} {C : Ca}
set_option maxHeartbeats 1000000 in
theorem cached_any (h : Dk w p s m B C) :
    Calls Tryz.prog 36 #[ptr p] w fun e w' => ∃ A c, e = .returned (.slice A (idx 0 C).length c) ∧ Ni w' w.heap.size A (idx 0 C).length c (idx 0 C) ∧ Below w.heap.size w w' := by
  obtain ⟨k, hown⟩ := h.hm
  have h1 := h.h1
  have hmax : Maps.size (dat sec C) ≤ maxLen := by rw [size_dat]; have := idx_len C 0; simp only [maxLen]; omega
  have hbytes : Maps.size (dat sec C) * 8 ≤ 140737488355328 := by rw [size_dat]; have := idx_len C 0; omega
  refine (callsIn_wide (n := 6)).1 ?_
  have hbl := hown.lt
  have hseq : SeqGives Fence.wide 2 Tryz.prog 109 #[.pointer (some ⟨w.heap.size, 0, none⟩)] encZ (fun ss => ss.Perm (intKeys (dat sec C))) (Maps.size (dat sec C)) (w.alloc (.cells #[.map (some m)] 77)) :=
    AnyZI.keys_gives (ρ := Tryz.keysA_ren) { Tryz.keysA with } Fence.wide _ trivial rfl (by omega) w.heap.size m k (dat sec C) _ (by simp) (by simp) (by
      obtain ⟨es, clock, hb, Ft, hs, hD⟩ := hown
      exact ⟨es, clock, (Below.heap_alloc _ _ m hbl).trans hb, Ft, hs, hD⟩)
  have cK : ∀ mb W, CallsIn Fence.wide 5 Tryz.prog 79 #[.map mb] W fun e w' => e = .returned (.func (.func 109) #[] #[.pointer (some ⟨W.heap.size, 0, none⟩)]) ∧ w' = W.alloc (.cells #[.map mb] 77) := fun mb W => AnyZI.keys_in Tryz.keysA Fence.wide 5 trivial rfl mb W
  have cS := AnyZI.sorted_in Tryz.sortedA Fence.wide 5 trivial trivial trivial trivial rfl (by omega) (sortsA _) (enters_of Tryz.func108 (by kernel_rfl) rfl) 109 #[.pointer (some ⟨w.heap.size, 0, none⟩)] trivial (enters_of Tryz.func109 (by kernel_rfl) rfl) _ _ hmax hbytes _ hseq
  change CallsIn _ _ Tryz.prog 78 _ _ _ at cS
  have cM : CallsIn Fence.wide 5 Tryz.prog 70 #[ptr p] w fun e w' => e = .returned (.bool true) ∧ w' = w := callsIn_wide.2 (made_any h)
  have hfK : Fence.wide.fn 79 := trivial
  have hfS : Fence.wide.fn 78 := trivial
  have hfM : Fence.wide.fn 70 := trivial
  obtain ⟨cap, hc, hc2, c0, c1⟩ := h.c0
  have HH := Lib.hid h
  clear h
  refine callsIn_of_wp Tryz.func36 rfl trivial ?_ rfl
  simp only [Tryz.ntmps36, List.size_toArray, List.length_cons, List.length_nil, Nat.reduceAdd, Nat.reduceSub, Array.replicate_succ, Array.replicate_zero, List.push_toArray, List.append_toArray, List.nil_append, List.cons_append]
  gi_wp2_with (first
    | (gi_at_call 70; refine cM.mono ?_; rintro e w' ⟨rfl, rfl⟩)
    | (gi_at_call 79; refine (cK _ _).mono ?_; rintro e w' ⟨rfl, rfl⟩)
    | (gi_at_call 78; refine cS.mono ?_; rintro e w' ⟨v, ss, rfl, hS, hrow, hnil, hb⟩))
  go_ret
  have hsort : ss.mergeSort (fun x y => decide (x ≤ y)) = (idx 0 C).map fun j : Nat => (j : Int) := by
    rw [mergeSort_of_perm_i hS, keys_dat, sort_rising _ (idx_rising C 0)]
  have hlen : ss.length = (idx 0 C).length := by rw [hS.length_eq, keys_dat, List.length_map]
  rw [hsort, hlen, List.map_map] at hrow
  obtain ⟨A, c, rfl, hN⟩ := ni_of_row hrow
  exact ⟨A, c, rfl, hN.lower (by simp), ((Below.refl _ _).alloc (Nat.le_refl _) _).trans (hb.mono (by simp))⟩

theorem cached_nil (w : World) : Calls Tryz.prog 36 #[.pointer none] w fun e w' => e = .returned (.slice none 0 0) ∧ w' = w := by
  go_enter Tryz.func36, Tryz.ntmps36
  go_wp2_with (go_at_call 70; refine (made_nil _).mono ?_; rintro e w' ⟨rfl, rfl⟩)
  go_ret
  exact ⟨rfl, rfl⟩
end
end Go.Proofs.YtgpfognglpfmoaaGreatDoor
end
section
/- What is cached of sectors is put on the disk itself; the cache is emptied. -/
namespace Go.Proofs.YtgpfognglpfmoaaGreatDoor
set_option linter.unusedSimpArgs false
set_option linter.unusedVariables false
open Go.RowKit Go.Maps

section
variable {w : World} {p s m : Nat} {B : List UInt8} {C : Ca}

theorem exec_lookup {o : Oper} {a : Act} {x k : Operand} (ho : o.op = .lookup 77 x k false) (hD : Dk w p s m B C) {i : Nat} (hi : i ≤ 16384) (hx : a.eval x = .map (some m)) (hk : a.eval k = .int .i64 (i : Int)) :
    (execOp a.eval o).run Tryz.prog w = .ok (.value (sec (valAt C i))) w := by
  unfold execOp
  simp only [ho, hx, hk, Sem.run_bind, hD.lookup hi, Result.andThen_ok, Sem.run_pure]
theorem Dk.put (hD : Dk w p s m B C) {i : Nat} (hi : i < C.length) {v : List UInt8} (hv : v.length = 256) :
    Dk (w.setCells s (256 * i) (cs8 v)) p s m (putS B i v) C ∧ Kp (· = s) w (w.setCells s (256 * i) (cs8 v)) := by
  obtain ⟨h1, h2⟩ := hD.hs.put hv (hD.bound hi)
  refine ⟨⟨?_, h1, ?_, by rw [putS_len hv (hD.bound hi)]; exact hD.hB, hD.hC, hD.h0, hD.h1, hD.ps⟩, h2⟩
  · obtain ⟨c, a, b, e⟩ := hD.hp
    exact ⟨c, a, b, (h2.block p hD.plt hD.ps).trans e⟩
  · obtain ⟨k, hk⟩ := hD.hm
    exact ⟨k, ownsMap_of_heap hk (h2.block m hD.mlt (fun e => hD.sm e.symm))⟩
/-- A sector put on the disk itself. -/
theorem wpList_store_sec {ops : Array Oper} {rest : List Oper} {o : Oper} {a : Act} {Q : Exit → Act → World → Prop} (hgd : o.guard = none) (x y : Operand) (ho : o.op = .store 120 x y) (hD : Dk w p s m B C) {i : Nat} (hi : i < C.length)
    (hx : a.eval x = .pointer (some ⟨s, i * 256, none⟩)) {v : List UInt8} (hy : a.eval y = sec v) (hv : v.length = 256)
    (h : ∀ w', Dk w' p s m (putS B i v) C → Kp (· = s) w w' → wpList Tryz.prog ops Q rest (a.put o.dst undef) w') : wpList Tryz.prog ops Q (o :: rest) a w := by
  have ht := hD.hs.there (hD.bound hi)
  obtain ⟨h1, h2⟩ := hD.put hi hv
  refine wpList_store_mid hgd 120 x y ho s (i * 256) (cs8 v).toArray hx hy (by rw [List.size_toArray, cs8_length, hv, Nat.mul_comm]; exact ht) (by rw [info63, List.size_toArray, cs8_length, hv]) (all_oneCell_toArray (cs8_one v)) ?_
  rw [Nat.mul_comm]
  exact h _ h1 h2
/-- The cache emptied. -/
theorem wpList_clear {ops : Array Oper} {rest : List Oper} {o : Oper} {a : Act} {Q : Exit → Act → World → Prop} (hgd : o.guard = none) (x : Operand) (ho : o.op = .call { callee := .builtin .clear, args := #[x], argTypes := #[77] }) (hD : Dk w p s m B C)
    (hx : a.eval x = .map (some m)) (h : ∀ w', Dk w' p s m B (noC C.length) → Kp (· = m) w w' → wpList Tryz.prog ops Q rest (a.put o.dst (.tuple #[])) w') : wpList Tryz.prog ops Q (o :: rest) a w := by
  refine wpList_plain hgd fun K hK => ?_
  obtain ⟨w', hrun, h1, h2⟩ := hD.clear o.type
  unfold Oper.wp execOp
  simp only [ho, resolve, invoke, builtin, Sem.run_bind, Sem.run_pure, Result.andThen_ok, List.map_toArray, List.map_cons, List.map_nil, hx, hrun]
  exact hK _ _ (h w' h1 h2)
theorem Kp.trans {may : Nat → Prop} {w w' w2 : World} (h : Kp may w w') (k : Kp may w' w2) : Kp may w w2 := (Kp.stays may).trans h k
theorem settle_take (C : Ca) (l : List Nat) (B : List UInt8) {i u : Nat} (h : l[i]? = some u) : putS (settle C (l.take i) B) u (valAt C u) = settle C (l.take (i + 1)) B := by
  rw [List.take_add_one, h, Option.toList_some, settle_app]
  rfl

set_option maxRecDepth 100000 in
theorem settle_any (h : Dk w p s m B C) {base : Nat} {A : Option Addr} {n c : Nat} {l : List Nat} (hr : Ni w base A n c l) (hl : ∀ i ∈ l, i < C.length) (hs : s < base) (hn : n ≤ 16384) :
    Calls Tryz.prog 71 #[ptr p, .slice A n c] w fun e w' => e = .returned (.tuple #[]) ∧ Dk w' p s m (settle C l B) (noC C.length) ∧ Kp (fun k => k = s ∨ k = m) w w' := by
  have HD := Lib.hid h
  have HR := Lib.hid hr
  have hlen := hr.1
  have hcap := hr.2.1
  have HL := Lib.hid hl
  have HS := Lib.hid hs
  clear h hr hl hs
  go_enter Tryz.func71, Tryz.ntmps71
  go_wp2
  go_loopw [8] (fun v wr => ∃ i : Nat, i ≤ n ∧ v = .int .i64 (i : Int) ∧ Hid (Dk wr p s m (settle C (l.take i) B) C) ∧ Hid (Kp (· = s) w wr)) (fun v _ => n - (RowKit.intOf v).toNat)
  case atStart => exact ⟨0, by omega, rfl, Lib.hid HD.out, Lib.hid (Kp.refl _ _)⟩
  case round =>
    obtain ⟨i, hi, rfl, HDr, HK⟩ := hrel
    have h1 := HDr.out.h1
    obtain ⟨cap, hc, hc2, c0, c1⟩ := HDr.out.c0
    by_cases hlt : i < n
    · obtain ⟨ad, u, rfl, hu, hcu⟩ := (HR.out.kp HK.out (fun k hk => by have := HS.out; omega)).at_ hlt
      have hul := HL.out u (List.mem_of_getElem? hu)
      have HU := Lib.hid (settle_take C l B hu)
      have HV := Lib.hid (valAt_len HDr.out.hC u)
      clear hu
      go_wp2_with fail
      refine wp_region_still_tail 11 (by kernel_rfl) (by kernel_rfl) ?_
      simp only [List.take_succ_cons, List.take_zero, List.drop_succ_cons, List.drop_zero]
      iterate 10 still_step
      refine still_val rfl (exec_lookup rfl HDr.out.drew (by omega) rfl rfl) ?_
      refine wpStill_nil ?_
      change wpList _ _ _ _ _ wr.drew
      go_wp2_with (first | (refine wpList_store_sec rfl _ _ rfl HDr.out.drew hul rfl rfl HV.out ?_; intro w2 hd2 hk2; have HD2 := Lib.hid hd2; have HK2 := Lib.hid hk2; clear hd2 hk2) | fail)
      go_roundw
      case rel => exact ⟨i + 1, by omega, by go_num, Lib.hid (by rw [← HU.out]; exact HD2.out), Lib.hid (HK.out.trans HK2.out.undrew)⟩
      case measure => simp [RowKit.intOf]; omega
    · obtain rfl : i = n := by omega
      have e : l.take i = l := List.take_of_length_le (by omega)
      rw [e] at HDr
      clear e
      go_wp2_with (first | (refine wpList_clear rfl _ rfl HDr.out rfl ?_; intro w2 hd2 hk2; have HD2 := Lib.hid hd2; have HK2 := Lib.hid hk2; clear hd2 hk2) | fail)
      go_end0
      exact ⟨rfl, HD2.out, (HK.out.mono (fun k hk => .inl hk)).trans (HK2.out.mono (fun k hk => .inr hk))⟩
end
end Go.Proofs.YtgpfognglpfmoaaGreatDoor
end
