/- Of: a disk out of an image. -/
import Derived.Test.YtphifbhgocjhcaaLi
namespace Go.Proofs.Ytphifbhgocjhcaa
set_option linter.unusedSimpArgs false
set_option linter.unusedVariables false
open Go.RowKit Go.Maps

/-- Where a slice's rest begins. -/
def restAt (A : Option Addr) (c k : Nat) : Option Addr := if c = k then A else A.map (·.add k)
theorem Rd.rest {w : World} {top n c k : Nat} {A : Option Addr} {l : List UInt8} (h : Rd w top A n c l) (hk : k ≤ n) : Rd w top (restAt A c k) (n - k) (c - k) (l.drop k) := h.drop_ hk
theorem exec_slice_lo {o : Oper} {a : Act} {w : World} (x y : Operand) (ho : o.op = .slice 27 x (some y) none none) {A : Option Addr} {n c k : Nat} {i : Int} (hx : a.eval x = .slice A n c) (hy : a.eval y = .int .i64 i) (hk : k ≤ n) (hi : i = k) :
    (execOp a.eval o).run Try.prog w = .ok (.value (.slice (restAt A c k) (n - k) (c - k))) w := by
  subst hi
  have h1 : (k : Int) ≤ (n : Int) := by omega
  unfold execOp
  simp only [ho, hx, hy, Option.map_some, Option.map_none]
  simp [Instr.sliceAt, Instr.slice, run_underlying Try.underlying27, Instr.sliceBounds, run_sliceBound, h1, Try.sizeOf5, restAt, go_sem]

theorem of_nil (w : World) : Calls Try.prog 9 #[.slice none 0 0] w fun e w' => e = .returned (.tuple #[.pointer none, .int .i64 2]) ∧ w' = w := by
  go_enter Try.func9, Try.ntmps9
  go_wp2_with fail
  refine (new_bad _ 0 (by omega)).mono ?_
  rintro e w1 ⟨rfl, rfl⟩
  go_wp2
  go_ret2
  exact ⟨rfl, rfl⟩
theorem of_bad (w : World) (A : Option Addr) (n c : Nat) (h : n % 256 ≠ 0) : Calls Try.prog 9 #[.slice A n c] w fun e w' => e = .returned (.tuple #[.pointer none, .int .i64 2]) ∧ w' = w := by
  have h1 : ¬ ((n : Int).tmod 256 = 0) := by rw [Int.tmod_eq_emod_of_nonneg (by omega)]; omega
  go_enter Try.func9, Try.ntmps9
  go_wp2
  go_ret2
  exact ⟨rfl, rfl⟩

/-- What Of has laid up to sector i. -/
def laid (l : List UInt8) (k i : Nat) : List UInt8 := l.take (256 * i) ++ (zs (k * 256)).drop (256 * i)
theorem laid_step (l : List UInt8) (k i : Nat) (hl : l.length = k * 256) (hi : i < k) : putS (laid l k i) i (sect l i) = laid l k (i + 1) := by
  have e1 : (l.take (256 * i)).length = 256 * i := by rw [List.length_take]; omega
  unfold putS laid
  rw [List.take_append_of_le_length (by omega), List.take_of_length_le (by omega), take_sect, List.drop_append, e1, List.drop_drop, List.drop_of_length_le (by omega), List.nil_append]
  congr 2
  omega
theorem laid_zero (l : List UInt8) (k : Nat) : laid l k 0 = zs (k * 256) := by simp [laid]
theorem laid_end (l : List UInt8) (k : Nat) (hl : l.length = k * 256) : laid l k k = l := by
  unfold laid
  rw [List.take_of_length_le (by omega), List.drop_of_length_le (by rw [List.length_replicate]; omega), List.append_nil]

set_option maxRecDepth 100000 in
theorem of_ok (w : World) {top : Nat} {A : Option Addr} {c : Nat} {l : List UInt8} (k : Nat) (h : Rd w top A (k * 256) c l) (ht : top ≤ w.heap.size) (h0 : 0 < k) (h1 : k ≤ 16384) :
    Calls Try.prog 9 #[.slice A (k * 256) c] w fun e w' => ∃ p s m, e = .returned (.tuple #[ptr p, .int .i64 0]) ∧ Dk w' p s m l (noC k) ∧ Hi w.heap.size p s m ∧ Below w.heap.size w w' := by
  have HR := Lib.hid h
  have HT := Lib.hid ht
  have HN := Lib.hid (new_any w k h0 h1)
  have hl := h.1
  have hcap := h.2.1
  have t1 : ((k * 256 : Nat) : Int).tmod 256 = 0 := by rw [Int.tmod_eq_emod_of_nonneg (by omega)]; omega
  have t2 : ((k * 256 : Nat) : Int).tdiv 256 = (k : Int) := by rw [Int.tdiv_eq_ediv_of_nonneg (by omega)]; omega
  have HL := Lib.hid hl
  clear h ht hl
  go_enter Try.func9, Try.ntmps9
  go_wp2_with fail
  refine HN.out.mono ?_
  rintro e w1 ⟨p, s, m, rfl, hd, hh, hb⟩
  have HD := Lib.hid hd
  have HH := Lib.hid hh
  have HB := Lib.hid hb
  have hcl : (noC k).length = k := by simp [noC]
  obtain ⟨cap, hc, hc2, c0, c1⟩ := hd.c0
  rw [hcl] at c0
  have HCL := Lib.hid hcl
  clear hd hh hb t1 t2 hcl hc hc2 c1
  go_wp2_with fail
  clear c0
  go_loopw [26] (fun v wr => ∃ i : Nat, i ≤ k ∧ v = .int .i64 (i : Int) ∧ Hid (Dk wr p s m (laid l k i) (noC k)) ∧ Hid (Below w.heap.size w wr)) (fun v _ => k - (RowKit.intOf v).toNat)
  case atStart => exact ⟨0, by omega, rfl, Lib.hid (by rw [laid_zero]; exact HD.out), HB⟩
  case round =>
    clear HD HB
    obtain ⟨i, hi, rfl, HD, HB⟩ := hrel
    obtain ⟨cap', hc, hc2, c0, c1⟩ := HD.out.c0
    rw [HCL.out] at c0
    by_cases hlt : i < k
    · have HRw : Hid (Rd wr top A (k * 256) c l) := Lib.hid (HR.out.below (HB.out.mono HT.out))
      have hrest := HRw.out.rest (k := i * 256) (by omega)
      obtain ⟨ad, had, hadb, hcell⟩ := hrest.2.2 (by omega)
      have HX := Lib.hid had
      have HC : Hid (∀ j u, (sect l i)[j]? = some u → wr.drew.cell? (ad.add j) = some (B8 u)) := Lib.hid (fun j u hu => by
        simp only [sect, List.getElem?_take] at hu
        split at hu
        · exact hcell j u (by rw [← hu, Nat.mul_comm])
        · cases hu)
      have HS : Hid ((sect l i).length = 256) := Lib.hid (sect_len (by have := HL.out; omega))
      have HP := Lib.hid (laid_step l k i HL.out hlt)
      have HW : Hid (IntKind.i64.wrap ((i : Int) * 256) = (i : Int) * 256) := Lib.hid (by rw [IntKind.wrap_i64]; omega)
      have HI : Hid (i < (noC k).length) := Lib.hid (by rw [HCL.out]; exact hlt)
      clear had hadb hcell hrest hc hc2 c1
      go_wp2_with fail
      refine wp_region_still_tail 11 (by kernel_rfl) (by kernel_rfl) ?_
      simp only [List.take_succ_cons, List.take_zero, List.drop_succ_cons, List.drop_zero]
      iterate 8 still_step
      refine still_val rfl (exec_slice_lo _ _ rfl rfl rfl (by omega) (k := i * 256) (by simp; exact HW.out)) ?_
      refine still_val rfl (exec_arr rfl rfl (by omega)) ?_
      refine still_val rfl (exec_load_sec rfl (ad := ad) (by rw [← HX.out]; rfl) HS.out HC.out) ?_
      refine wpStill_nil ?_
      change wpList _ _ _ _ _ wr.drew
      go_wp2_with (first | (refine wpList_store_sec rfl _ _ rfl HD.out.drew HI.out rfl rfl HS.out ?_; intro w2 hd2 hk2; have HD2 := Lib.hid hd2; have HK2 := Lib.hid hk2; clear hd2 hk2) | fail)
      go_roundw
      case rel => exact ⟨i + 1, by omega, by go_num, Lib.hid (by rw [← HP.out]; exact HD2.out), Lib.hid (HB.out.trans (HK2.out.undrew.below HB.out.size (fun q e => by have := HH.out; unfold Hi at this; omega)))⟩
      case measure => simp [RowKit.intOf]; omega
    · obtain rfl : i = k := by omega
      go_wp2
      go_ret2
      have := HD.out
      rw [laid_end l i HL.out] at this
      exact ⟨p, s, m, rfl, this, HH.out, HB.out⟩
end Go.Proofs.Ytphifbhgocjhcaa
