/- A sector of one byte; what an act writes; a number modulo another one. -/
import Derived.Test.YtphifbhgocjhcaaFd
namespace Go.Proofs.Ytphifbhgocjhcaa
set_option linter.unusedSimpArgs false
set_option linter.unusedVariables false
open Go.RowKit Go.Maps

/-- n modulo m, from 0 on. -/
def pickN (n m : Int) : Nat := (if n.tmod m < 0 then n.tmod m + m else n.tmod m).toNat
theorem pickN_lt (n m : Int) (hm : 1 ≤ m) : (pickN n m : Int) < m := by
  have h1 : -m < n.tmod m := Int.lt_tmod_of_pos n (show (0 : Int) < m by omega)
  have h2 : n.tmod m < m := Int.tmod_lt_of_pos n (by omega)
  unfold pickN
  split <;> omega
theorem pick_any (w : World) (n m : Int) (hm : 1 ≤ m) (hm2 : m ≤ 1000) :
    Calls Try.prog 19 #[.int .i64 n, .int .i64 m] w fun e w' => e = .returned (.int .i64 (pickN n m : Int)) ∧ w' = w := by
  have h1 : -m < n.tmod m := Int.lt_tmod_of_pos n (show (0 : Int) < m by omega)
  have h2 : n.tmod m < m := Int.tmod_lt_of_pos n (by omega)
  by_cases hs : n.tmod m < 0
  · go_enter Try.func19, Try.ntmps19
    go_wp2
    go_ret
    refine ⟨?_, rfl⟩
    rw [pickN, if_pos hs, Int.toNat_of_nonneg (by omega)]
    rfl
  · go_enter Try.func19, Try.ntmps19
    go_wp2
    go_ret
    refine ⟨?_, rfl⟩
    rw [pickN, if_neg (by omega), Int.toNat_of_nonneg (by omega)]
    rfl

/-- Bytes that a loop has written up to i. -/
def upTo (b : UInt8) (i : Nat) : List UInt8 := List.replicate i b ++ List.replicate (256 - i) 0
theorem upTo_len (b : UInt8) (i : Nat) (h : i ≤ 256) : (upTo b i).length = 256 := by
  rw [upTo, List.length_append, List.length_replicate, List.length_replicate]; omega
theorem upTo_zero (b : UInt8) : upTo b 0 = List.replicate 256 0 := rfl
theorem upTo_end (b : UInt8) : upTo b 256 = List.replicate 256 b := by
  rw [upTo, Nat.sub_self]; exact List.append_nil _
theorem upTo_set (b : UInt8) (i : Nat) (h : i < 256) : (upTo b i).set i b = upTo b (i + 1) := by
  apply List.ext_getElem?
  intro j
  have e1 : (upTo b i).length = 256 := upTo_len b i (by omega)
  by_cases hj : j = i
  · subst hj
    rw [List.getElem?_set_self (by omega), upTo, List.getElem?_append_left (by rw [List.length_replicate]; omega), List.getElem?_replicate, if_pos (by omega)]
  · rw [List.getElem?_set_ne (Ne.symm hj)]
    simp only [upTo, List.getElem?_append, List.length_replicate, List.getElem?_replicate]
    (repeat' split) <;> first | rfl | (exfalso; omega)

/-- A block of one's own that holds bytes. -/
def Row (w : World) (g : Nat) (l : List UInt8) : Prop := w.heap[g]? = some (.cells (cs8 l).toArray 5 (0, 0))
section
variable {w w' : World} {g : Nat} {l : List UInt8}
theorem Row.lt (h : Row w g l) : g < w.heap.size := (Array.getElem?_eq_some_iff.1 h).1
theorem Row.cell (h : Row w g l) {j : Nat} {b : UInt8} (hj : l[j]? = some b) : w.cell? ⟨g, j, none⟩ = some (B8 b) := by
  rw [cell_of_row w g j _ 5 (0, 0) h]
  simp [cs8, hj]
theorem Row.frozen (h : Row w g l) (j : Nat) : w.frozen? ⟨g, j, none⟩ = false := by
  unfold Row at h
  simp [World.frozen?, h]
theorem Row.of (h : Row w g l) (e : w'.heap[g]? = w.heap[g]?) : Row w' g l := e.trans h
theorem Row.set (h : Row w g l) (i : Nat) (b : UInt8) : Row (w.setCell ⟨g, i, none⟩ (B8 b)) g (l.set i b) := by
  unfold Row at h ⊢
  simp only [World.setCell, Array.getElem?_modify, if_pos trivial, if_true, h, Option.map_some]
  simp [cs8, List.map_set]
theorem Row.rd (h : Row w g l) : Rd w w.heap.size (some ⟨g, 0, none⟩) l.length l.length l := Rd.of_block h (Array.getElem?_eq_some_iff.1 h).1
theorem Row.ow (h : Row w g l) {base : Nat} (hb : base ≤ g) (hl : l.length ≤ 4294967296) : Ow w base (.slice (some ⟨g, 0, none⟩) l.length l.length) l :=
  ⟨by rw [cs8_length, Nat.mul_one], .inr ⟨g, l.length, _, rfl, hb, h, Nat.le_refl _, by simp only [maxLen]; omega, by simp [cs8_length], by rw [Nat.mul_one, ← cs8_length l]; simp⟩⟩
theorem bl_set {w0 : World} (h : Below w0.heap.size w0 w) (hg : w0.heap.size ≤ g) (o : Nat) (u : Value) : Below w0.heap.size w0 (w.setCell ⟨g, o, none⟩ u) := bl_only h (Only.set w o u) hg
end

theorem made8 (n : Nat) : madeCells (Value.int .u8 0).cells n = (cs8 (List.replicate n 0)).toArray := by
  apply Array.ext
  · rw [size_madeCells, List.size_toArray, cs8_length, List.length_replicate]
  · intro i h1 h2
    simp only [madeCells, Array.getElem_map, List.getElem_toArray, cs8, List.getElem_map, List.getElem_replicate]
    simp [Value.cells, Nat.mod_one, B8]
theorem run_make8 (w : World) (n : Nat) (hn : n ≤ 4194304) : (Instr.makeSlice 27 (.int .i64 (n : Int)) (.int .i64 (n : Int))).run Try.prog w = .ok (.slice (some ⟨w.heap.size, 0, none⟩) n n) (w.alloc (.cells (cs8 (List.replicate n 0)).toArray 5)) := by
  obtain ⟨i, hi, hz0, hz1, hz2⟩ := info_parts info_u8
  have hr := run_make (P := Try.prog) w 27 5 i _ Try.underlying27 hi hz0 .i64 .i64 n n (by omega) (Int.le_refl _) (by rw [hz2]; omega) (by omega)
  rw [hr, hz1, Nat.mul_one, made8]
  simp

theorem le_refl_hs (w : World) : w.heap.size ≤ w.heap.size := Nat.le_refl _
set_option maxRecDepth 100000 in
theorem row_any (w : World) (b : UInt8) : Calls Try.prog 10 #[B8 b] w fun e w' => e = .returned (.slice (some ⟨w.heap.size, 0, none⟩) 256 256) ∧ Row w' w.heap.size (List.replicate 256 b) ∧ Below w.heap.size w w' := by
  have hmk : (Instr.makeSlice 27 (.int .i64 256) (.int .i64 256)).run Try.prog w = .ok (.slice (some ⟨w.heap.size, 0, none⟩) 256 256) (w.alloc (.cells (cs8 (List.replicate 256 0)).toArray 5)) := run_make8 w 256 (by omega)
  have HR : Hid (Row (w.alloc (.cells (cs8 (List.replicate 256 0)).toArray 5)) w.heap.size (upTo b 0)) := Lib.hid (heap_alloc_new w _)
  have HB := Lib.hid (bl_alloc (bl0 w) (.cells (cs8 (List.replicate 256 0)).toArray 5))
  have hx : ∃ X, X = (.cells (cs8 (List.replicate 256 0)).toArray 5 : Obj) := ⟨_, rfl⟩
  obtain ⟨X, hX⟩ := hx
  rw [← hX] at hmk HR HB
  clear hX
  have hu : ∃ u, u = B8 b := ⟨_, rfl⟩
  obtain ⟨u, hu⟩ := hu
  have HU := Lib.hid hu
  have hu2 : u = .int .u8 (b.toNat : Int) := hu
  rw [← hu]
  clear hu
  go_enter Try.func10, Try.ntmps10
  go_wp2
  go_loopw [4] (fun v wr => ∃ i : Nat, i ≤ 256 ∧ v = .int .i64 (i : Int) ∧ Hid (Row wr w.heap.size (upTo b i)) ∧ Hid (Below w.heap.size w wr)) (fun v _ => 256 - (RowKit.intOf v).toNat)
  case atStart => exact ⟨0, by omega, rfl, HR, HB⟩
  case round =>
    clear HR HB
    obtain ⟨i, hi, rfl, HR, HB⟩ := hrel
    have HT := Lib.hid (le_refl_hs w)
    by_cases hlt : i < 256
    · have hco := HR.out.cell (List.getElem?_eq_getElem (show i < (upTo b i).length by rw [upTo_len b i hi]; omega))
      have hfo := HR.out.frozen i
      generalize B8 ((upTo b i)[i]'(by rw [upTo_len b i hi]; omega)) = y at hco
      have HS := Lib.hid (upTo_set b i hlt)
      go_wp2_with fail
      go_roundw
      case rel =>
        refine ⟨i + 1, by omega, by go_num, Lib.hid ?_, Lib.hid (bl_set HB.out HT.out _ _)⟩
        rw [← HS.out]
        exact HR.out.set i b
      case measure => simp [RowKit.intOf]; omega
    · obtain rfl : i = 256 := by omega
      have HE := Lib.hid (upTo_end b)
      go_wp2
      go_ret
      rw [HE.out] at HR
      exact ⟨rfl, HR.out, HB.out⟩
end Go.Proofs.Ytphifbhgocjhcaa
