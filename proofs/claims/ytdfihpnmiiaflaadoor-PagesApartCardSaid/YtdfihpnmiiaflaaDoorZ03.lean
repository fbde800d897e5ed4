/- A piece mixed in: mixed. -/
import Derived.Test.YtdfihpnmiiaflaaDoorZ02
import Derived.Test.YtdfihpnmiiaflaaDoorZ01
set_option linter.unusedSimpArgs false
set_option linter.unusedVariables false
namespace Go.Proofs.YtdfihpnmiiaflaaDoor
set_option maxRecDepth 8192
open Go.RowKit

theorem eight {α : Type} {l : List α} (h : l.length = 8) : ∃ a b c d e f g i, l = [a, b, c, d, e, f, g, i] := by
  match l, h with
  | [a, b, c, d, e, f, g, i], _ => exact ⟨a, b, c, d, e, f, g, i, rfl⟩
/-- The first t words added. -/
def addT (l m : List UInt64) (t : Nat) : List UInt64 := List.zipWith (· + ·) (l.take t) (m.take t) ++ l.drop t
theorem addT_all (l m : List UInt64) (h : l.length = 8) (k : m.length = 8) : addT l m 8 = List.zipWith (· + ·) l m := by
  rw [addT, List.take_of_length_le (by omega), List.take_of_length_le (by omega), List.drop_eq_nil_of_le (by omega), List.append_nil]
theorem addT_length (l m : List UInt64) (h : l.length = 8) (k : m.length = 8) (t : Nat) : (addT l m t).length = 8 := by
  simp [addT, h, k]; omega
theorem addT_at (l m : List UInt64) (h : l.length = 8) (k : m.length = 8) (t : Nat) (ht : t < 8) : (addT l m t)[t]? = l[t]? := by
  rw [addT, List.getElem?_append_right (by simp; omega)]
  simp [h, k, Nat.min_eq_left (Nat.le_of_lt ht)]
theorem addT_set (l m : List UInt64) (h : l.length = 8) (k : m.length = 8) (t : Nat) (ht : t < 8) : (addT l m t).set t (l[t] + m[t]) = addT l m (t + 1) := by
  have hl : (List.zipWith (· + ·) (l.take t) (m.take t)).length = t := by simp [h, k]; omega
  have e := List.set_append_right (s := List.zipWith (· + ·) (l.take t) (m.take t)) (t := l.drop t) (i := t) (x := l[t] + m[t]) (by omega)
  rw [addT, e, hl, Nat.sub_self, List.drop_eq_getElem_cons (by omega : t < l.length), List.set_cons_zero, addT, List.take_succ_eq_append_getElem (by omega), List.take_succ_eq_append_getElem (by omega), List.zipWith_append (by simp [h, k])]
  simp
theorem cells64_at (l : List UInt64) (t : Nat) (h : t < l.length) : (cs64 l)[t]? = some (.int .u64 ((l.getD t 0).toNat : Int)) := by
  rw [cs64, List.getElem?_map, List.getD_eq_getElem?_getD, List.getElem?_eq_getElem h]
  rfl

set_option maxHeartbeats 1600000 in
set_option maxRecDepth 8192 in
theorem mixed_any (KA st : List UInt64) (p : List UInt8) (gk : Nat) (w : World) (hs : st.length = 8) (hp : p.length = 128) (hKA : 80 ≤ KA.length) (hK : Bk w gk (cs64 KA)) :
    Calls Tryd.prog 89 #[.pointer (some ⟨gk, 0, none⟩), .agg (cs64 st).toArray, .agg (cs8 p).toArray] w fun e w' => e = .returned (.agg (cs64 (mix KA st p)).toArray) ∧ Below w.heap.size w w' := by
  have hgk := hK.lt
  have HP := Lib.hid (show (cs8 p).length = 128 by rw [cs8_length, hp])
  have HM := Lib.hid (show mix KA st p = List.zipWith (· + ·) st (rounds KA (sch p 80) 80 (S8.of st)).list from rfl)
  have hW := sch_length p 80
  have HSP := Lib.hid (spread_any p hp)
  have HSL := Lib.hid hs
  generalize sch p 80 = W at HM hW HSP
  generalize mix KA st p = R at HM ⊢
  have HPB : Hid (Bk (((w.alloc (.cells (cs64 st).toArray 87)).alloc (.cells (cs8 p).toArray 130)).alloc (.cells z38.toArray 87)) (w.heap.size + 1) (cs8 p)) := Lib.hid (by
    have := (Bk.new (w.alloc (.cells (cs64 st).toArray 87)) (cs8 p) 130).old (.cells z38.toArray 87)
    simpa using this)
  go_enter Tryd.func89, Tryd.ntmps89
  go_wp2_with (first | (refine wpList_alloc_z rfl 87 rfl z38 zero38 ?_) | (refine wpList_load_at rfl 130 _ rfl _ rfl (cs8 p) _ HPB.out.at_ Tryd.underlying130 rfl (by rw [HP.out]; exact info41) ?_))
  refine (HSP.out _).mono ?_; rintro e w1 ⟨rfl, hb1⟩
  have hB1 : Below w.heap.size w w1 := (bl_alloc (bl_alloc (bl_alloc (bl0 w) _) _) _).trans (hb1.mono (by simp; omega))
  have h0 : Bk w1 w.heap.size (cs64 st) := (((Bk.new w (cs64 st) 87).old _).old _).keep hb1
  have h2 : Bk w1 (w.heap.size + 1 + 1) z38 := by
    have := (Bk.new ((w.alloc (.cells (cs64 st).toArray 87)).alloc (.cells (cs8 p).toArray 130)) z38 87).keep hb1
    simpa using this
  have hs1 : w.heap.size + 3 ≤ w1.heap.size := by have := hb1.size; simp at this; omega
  clear hb1
  have HWL := Lib.hid (show (cs64 W).length = 80 by rw [cs64_length, hW])
  have hB2 := Lib.hid (bl_alloc hB1 (.cells z47.toArray 97))
  have hWB0 := Lib.hid (Bk.new w1 z47 97)
  have H0 := Lib.hid (h0.old (.cells z47.toArray 97))
  have H2 := Lib.hid (h2.old (.cells z47.toArray 97))
  have HK1 := Lib.hid ((hK.keep hB1).old (.cells z47.toArray 97))
  clear hB1 h0 h2 hK
  go_wp2_with (first | (refine wpList_alloc_z rfl 97 rfl z47 zero47 ?_) | (refine wpList_store_bk rfl 97 _ _ rfl w1.heap.size rfl (cs64 W) z47 rfl hWB0.out (by rw [HWL.out]; exact info47) (by rw [HWL.out]; exact len_z47) (cs64_one _) ?_))
  have HB := Lib.hid (bl_setRow hB2.out (show w.heap.size ≤ w1.heap.size by omega) (cs64 W).toArray)
  have HWB := Lib.hid (hWB0.out.setRow (cs64 W))
  have HST := Lib.hid (H0.out.other (show w.heap.size ≠ w1.heap.size by omega) (cs64 W).toArray)
  have HRE := Lib.hid (H2.out.other (show w.heap.size + 1 + 1 ≠ w1.heap.size by omega) (cs64 W).toArray)
  have HKB := Lib.hid (HK1.out.other (show gk ≠ w1.heap.size by omega) (cs64 W).toArray)
  clear hB2 hWB0 H0 H2 HK1
  generalize (w1.alloc (.cells z47.toArray 97)).setRow w1.heap.size (cs64 W).toArray = w3 at HB HWB HST HRE HKB ⊢
  obtain ⟨a0, b0, c0, d0, e0, f0, g0, h0, rfl⟩ := eight HSL.out
  have HS0 : Hid (Bk w3.drew w.heap.size (cs64 [a0, b0, c0, d0, e0, f0, g0, h0])) := Lib.hid HST.out.drew
  have hR := Sm.stays
  refine reg_start Sm follows_mixed ?_
-- region 2 of f23: 12 operations, draws: true
  refine reg_take (v := .pointer (some ⟨w.heap.size, 0, none⟩)) hR 0 rfl (by kernel_rfl) (by kernel_rfl) (by kernel_rfl) (fun _ _ _ h => h) (by rfl) ?_ ?_
  · intro W hW; exact exec_at64 87 _ _ rfl Tryd.underlying87 rfl rfl (by decide)
  try simp only [Act.put, List.getElem_toArray, List.getElem_cons_succ, List.getElem_cons_zero, List.setIfInBounds_toArray, List.set_cons_zero, List.set_cons_succ]
  refine reg_take (v := .int .u64 (a0.toNat : Int)) hR 1 rfl (by kernel_rfl) (by kernel_rfl) (by kernel_rfl) (fun _ _ _ h => h) (by rfl) ?_ ?_
  · intro W hW; rw [show W = _ from hW]; exact exec_load_cell 78 _ rfl Tryd.isAgg78 rfl (HS0.out.cell rfl)
  try simp only [Act.put, List.getElem_toArray, List.getElem_cons_succ, List.getElem_cons_zero, List.setIfInBounds_toArray, List.set_cons_zero, List.set_cons_succ]
  refine reg_take (v := .pointer (some ⟨w.heap.size, 1, none⟩)) hR 2 rfl (by kernel_rfl) (by kernel_rfl) (by kernel_rfl) (fun _ _ _ h => h) (by rfl) ?_ ?_
  · intro W hW; exact exec_at64 87 _ _ rfl Tryd.underlying87 rfl rfl (by decide)
  try simp only [Act.put, List.getElem_toArray, List.getElem_cons_succ, List.getElem_cons_zero, List.setIfInBounds_toArray, List.set_cons_zero, List.set_cons_succ]
  refine reg_take (v := .int .u64 (b0.toNat : Int)) hR 3 rfl (by kernel_rfl) (by kernel_rfl) (by kernel_rfl) (fun _ _ _ h => h) (by rfl) ?_ ?_
  · intro W hW; rw [show W = _ from hW]; exact exec_load_cell 78 _ rfl Tryd.isAgg78 rfl (HS0.out.cell rfl)
  try simp only [Act.put, List.getElem_toArray, List.getElem_cons_succ, List.getElem_cons_zero, List.setIfInBounds_toArray, List.set_cons_zero, List.set_cons_succ]
  refine reg_take (v := .pointer (some ⟨w.heap.size, 2, none⟩)) hR 4 rfl (by kernel_rfl) (by kernel_rfl) (by kernel_rfl) (fun _ _ _ h => h) (by rfl) ?_ ?_
  · intro W hW; exact exec_at64 87 _ _ rfl Tryd.underlying87 rfl rfl (by decide)
  try simp only [Act.put, List.getElem_toArray, List.getElem_cons_succ, List.getElem_cons_zero, List.setIfInBounds_toArray, List.set_cons_zero, List.set_cons_succ]
  refine reg_take (v := .int .u64 (c0.toNat : Int)) hR 5 rfl (by kernel_rfl) (by kernel_rfl) (by kernel_rfl) (fun _ _ _ h => h) (by rfl) ?_ ?_
  · intro W hW; rw [show W = _ from hW]; exact exec_load_cell 78 _ rfl Tryd.isAgg78 rfl (HS0.out.cell rfl)
  try simp only [Act.put, List.getElem_toArray, List.getElem_cons_succ, List.getElem_cons_zero, List.setIfInBounds_toArray, List.set_cons_zero, List.set_cons_succ]
  refine reg_take (v := .pointer (some ⟨w.heap.size, 3, none⟩)) hR 6 rfl (by kernel_rfl) (by kernel_rfl) (by kernel_rfl) (fun _ _ _ h => h) (by rfl) ?_ ?_
  · intro W hW; exact exec_at64 87 _ _ rfl Tryd.underlying87 rfl rfl (by decide)
  try simp only [Act.put, List.getElem_toArray, List.getElem_cons_succ, List.getElem_cons_zero, List.setIfInBounds_toArray, List.set_cons_zero, List.set_cons_succ]
  refine reg_take (v := .int .u64 (d0.toNat : Int)) hR 7 rfl (by kernel_rfl) (by kernel_rfl) (by kernel_rfl) (fun _ _ _ h => h) (by rfl) ?_ ?_
  · intro W hW; rw [show W = _ from hW]; exact exec_load_cell 78 _ rfl Tryd.isAgg78 rfl (HS0.out.cell rfl)
  try simp only [Act.put, List.getElem_toArray, List.getElem_cons_succ, List.getElem_cons_zero, List.setIfInBounds_toArray, List.set_cons_zero, List.set_cons_succ]
  refine reg_take (v := ?_) hR 8 rfl (by kernel_rfl) (by kernel_rfl) (by kernel_rfl) (fun _ _ _ h => h) (by rfl) ?_ ?_
  rotate_left
  · intro W hW; go_simp; try with_reducible rfl
  try simp only [Act.put, List.getElem_toArray, List.getElem_cons_succ, List.getElem_cons_zero, List.setIfInBounds_toArray, List.set_cons_zero, List.set_cons_succ]
  refine reg_take (v := ?_) hR 9 rfl (by kernel_rfl) (by kernel_rfl) (by kernel_rfl) (fun _ _ _ h => h) (by rfl) ?_ ?_
  rotate_left
  · intro W hW; go_simp; try with_reducible rfl
  try simp only [Act.put, List.getElem_toArray, List.getElem_cons_succ, List.getElem_cons_zero, List.setIfInBounds_toArray, List.set_cons_zero, List.set_cons_succ]
  refine reg_take (v := ?_) hR 10 rfl (by kernel_rfl) (by kernel_rfl) (by kernel_rfl) (fun _ _ _ h => h) (by rfl) ?_ ?_
  rotate_left
  · intro W hW; go_simp; try with_reducible rfl
  try simp only [Act.put, List.getElem_toArray, List.getElem_cons_succ, List.getElem_cons_zero, List.setIfInBounds_toArray, List.set_cons_zero, List.set_cons_succ]
  refine reg_take (v := ?_) hR 11 rfl (by kernel_rfl) (by kernel_rfl) (by kernel_rfl) (fun _ _ _ h => h) (by rfl) ?_ ?_
  rotate_left
  · intro W hW; go_simp; try with_reducible rfl
  try simp only [Act.put, List.getElem_toArray, List.getElem_cons_succ, List.getElem_cons_zero, List.setIfInBounds_toArray, List.set_cons_zero, List.set_cons_succ]
  refine reg_done (by kernel_rfl) ?_ _

  go_wp2_with fail
  refine reg_start Sm follows_mixed ?_
-- region 3 of f23: 12 operations, draws: true
  refine reg_take (v := .pointer (some ⟨w.heap.size, 4, none⟩)) hR 0 rfl (by kernel_rfl) (by kernel_rfl) (by kernel_rfl) (fun _ _ _ h => h) (by rfl) ?_ ?_
  · intro W hW; exact exec_at64 87 _ _ rfl Tryd.underlying87 rfl rfl (by decide)
  try simp only [Act.put, List.getElem_toArray, List.getElem_cons_succ, List.getElem_cons_zero, List.setIfInBounds_toArray, List.set_cons_zero, List.set_cons_succ]
  refine reg_take (v := .int .u64 (e0.toNat : Int)) hR 1 rfl (by kernel_rfl) (by kernel_rfl) (by kernel_rfl) (fun _ _ _ h => h) (by rfl) ?_ ?_
  · intro W hW; rw [show W = _ from hW]; exact exec_load_cell 78 _ rfl Tryd.isAgg78 rfl (HS0.out.cell rfl)
  try simp only [Act.put, List.getElem_toArray, List.getElem_cons_succ, List.getElem_cons_zero, List.setIfInBounds_toArray, List.set_cons_zero, List.set_cons_succ]
  refine reg_take (v := .pointer (some ⟨w.heap.size, 5, none⟩)) hR 2 rfl (by kernel_rfl) (by kernel_rfl) (by kernel_rfl) (fun _ _ _ h => h) (by rfl) ?_ ?_
  · intro W hW; exact exec_at64 87 _ _ rfl Tryd.underlying87 rfl rfl (by decide)
  try simp only [Act.put, List.getElem_toArray, List.getElem_cons_succ, List.getElem_cons_zero, List.setIfInBounds_toArray, List.set_cons_zero, List.set_cons_succ]
  refine reg_take (v := .int .u64 (f0.toNat : Int)) hR 3 rfl (by kernel_rfl) (by kernel_rfl) (by kernel_rfl) (fun _ _ _ h => h) (by rfl) ?_ ?_
  · intro W hW; rw [show W = _ from hW]; exact exec_load_cell 78 _ rfl Tryd.isAgg78 rfl (HS0.out.cell rfl)
  try simp only [Act.put, List.getElem_toArray, List.getElem_cons_succ, List.getElem_cons_zero, List.setIfInBounds_toArray, List.set_cons_zero, List.set_cons_succ]
  refine reg_take (v := .pointer (some ⟨w.heap.size, 6, none⟩)) hR 4 rfl (by kernel_rfl) (by kernel_rfl) (by kernel_rfl) (fun _ _ _ h => h) (by rfl) ?_ ?_
  · intro W hW; exact exec_at64 87 _ _ rfl Tryd.underlying87 rfl rfl (by decide)
  try simp only [Act.put, List.getElem_toArray, List.getElem_cons_succ, List.getElem_cons_zero, List.setIfInBounds_toArray, List.set_cons_zero, List.set_cons_succ]
  refine reg_take (v := .int .u64 (g0.toNat : Int)) hR 5 rfl (by kernel_rfl) (by kernel_rfl) (by kernel_rfl) (fun _ _ _ h => h) (by rfl) ?_ ?_
  · intro W hW; rw [show W = _ from hW]; exact exec_load_cell 78 _ rfl Tryd.isAgg78 rfl (HS0.out.cell rfl)
  try simp only [Act.put, List.getElem_toArray, List.getElem_cons_succ, List.getElem_cons_zero, List.setIfInBounds_toArray, List.set_cons_zero, List.set_cons_succ]
  refine reg_take (v := .pointer (some ⟨w.heap.size, 7, none⟩)) hR 6 rfl (by kernel_rfl) (by kernel_rfl) (by kernel_rfl) (fun _ _ _ h => h) (by rfl) ?_ ?_
  · intro W hW; exact exec_at64 87 _ _ rfl Tryd.underlying87 rfl rfl (by decide)
  try simp only [Act.put, List.getElem_toArray, List.getElem_cons_succ, List.getElem_cons_zero, List.setIfInBounds_toArray, List.set_cons_zero, List.set_cons_succ]
  refine reg_take (v := .int .u64 (h0.toNat : Int)) hR 7 rfl (by kernel_rfl) (by kernel_rfl) (by kernel_rfl) (fun _ _ _ h => h) (by rfl) ?_ ?_
  · intro W hW; rw [show W = _ from hW]; exact exec_load_cell 78 _ rfl Tryd.isAgg78 rfl (HS0.out.cell rfl)
  try simp only [Act.put, List.getElem_toArray, List.getElem_cons_succ, List.getElem_cons_zero, List.setIfInBounds_toArray, List.set_cons_zero, List.set_cons_succ]
  refine reg_take (v := ?_) hR 8 rfl (by kernel_rfl) (by kernel_rfl) (by kernel_rfl) (fun _ _ _ h => h) (by rfl) ?_ ?_
  rotate_left
  · intro W hW; go_simp; try with_reducible rfl
  try simp only [Act.put, List.getElem_toArray, List.getElem_cons_succ, List.getElem_cons_zero, List.setIfInBounds_toArray, List.set_cons_zero, List.set_cons_succ]
  refine reg_take (v := ?_) hR 9 rfl (by kernel_rfl) (by kernel_rfl) (by kernel_rfl) (fun _ _ _ h => h) (by rfl) ?_ ?_
  rotate_left
  · intro W hW; go_simp; try with_reducible rfl
  try simp only [Act.put, List.getElem_toArray, List.getElem_cons_succ, List.getElem_cons_zero, List.setIfInBounds_toArray, List.set_cons_zero, List.set_cons_succ]
  refine reg_take (v := ?_) hR 10 rfl (by kernel_rfl) (by kernel_rfl) (by kernel_rfl) (fun _ _ _ h => h) (by rfl) ?_ ?_
  rotate_left
  · intro W hW; go_simp; try with_reducible rfl
  try simp only [Act.put, List.getElem_toArray, List.getElem_cons_succ, List.getElem_cons_zero, List.setIfInBounds_toArray, List.set_cons_zero, List.set_cons_succ]
  refine reg_take (v := ?_) hR 11 rfl (by kernel_rfl) (by kernel_rfl) (by kernel_rfl) (fun _ _ _ h => h) (by rfl) ?_ ?_
  rotate_left
  · intro W hW; go_simp; try with_reducible rfl
  try simp only [Act.put, List.getElem_toArray, List.getElem_cons_succ, List.getElem_cons_zero, List.setIfInBounds_toArray, List.set_cons_zero, List.set_cons_succ]
  refine reg_done (by kernel_rfl) ?_ _

  clear HS0
  have HB := Lib.hid HB.out.drew.drew
  have HWB := Lib.hid HWB.out.drew.drew
  have HST := Lib.hid HST.out.drew.drew
  have HRE := Lib.hid HRE.out.drew.drew
  have HKB := Lib.hid HKB.out.drew.drew
  go_wp2_with fail
  generalize w3.drew.drew = w4 at HB HWB HST HRE HKB ⊢
  go_loopw [8, 9, 10, 11, 12, 13, 14, 15, 39] (fun v8 v9 v10 v11 v12 v13 v14 v15 v39 wr => ∃ (t : Nat) (s : S8), t ≤ 80 ∧ v39 = .int .i64 (t : Int) ∧ v8 = .int .u64 (s.a.toNat : Int) ∧ v9 = .int .u64 (s.b.toNat : Int) ∧ v10 = .int .u64 (s.c.toNat : Int) ∧ v11 = .int .u64 (s.d.toNat : Int) ∧ v12 = .int .u64 (s.e.toNat : Int) ∧ v13 = .int .u64 (s.f.toNat : Int) ∧ v14 = .int .u64 (s.g.toNat : Int) ∧ v15 = .int .u64 (s.h.toNat : Int) ∧ Hid (s = rounds KA W t (S8.of [a0, b0, c0, d0, e0, f0, g0, h0])) ∧ Hid (Below w.heap.size w wr) ∧ Hid (Bk wr w1.heap.size (cs64 W)) ∧ Hid (Bk wr w.heap.size (cs64 [a0, b0, c0, d0, e0, f0, g0, h0])) ∧ Hid (Bk wr (w.heap.size + 1 + 1) z38) ∧ Hid (Bk wr gk (cs64 KA))) (fun _ _ _ _ _ _ _ _ v _ => 80 - (intOf v).toNat)
  case atStart => exact ⟨0, ⟨a0, b0, c0, d0, e0, f0, g0, h0⟩, by omega, rfl, rfl, rfl, rfl, rfl, rfl, rfl, rfl, rfl, Lib.hid rfl, HB, HWB, HST, HRE, HKB⟩
  case round =>
    clear HB HWB HST HRE HKB
    obtain ⟨t, ⟨a1, b1, c1, d1, e1, f1, g1, h1⟩, ht, rfl, rfl, rfl, rfl, rfl, rfl, rfl, rfl, rfl, HRN, HB, HWB, HST, HRE, HKB⟩ := hrel
    by_cases hlt : t < 80
    · have hkt := Lib.hid (cells64_at KA t (by omega))
      have hwt := Lib.hid (cells64_at W t (by omega))
      have HN := Lib.hid (show rounds KA W (t + 1) (S8.of [a0, b0, c0, d0, e0, f0, g0, h0]) = round (KA.getD t 0) (W.getD t 0) ⟨a1, b1, c1, d1, e1, f1, g1, h1⟩ from by rw [rounds, HRN.out])
      clear HRN
      generalize KA.getD t 0 = kt at hkt HN
      generalize W.getD t 0 = wt at hwt HN
      obtain ⟨H1, q1⟩ : ∃ S, Hid (h1 + rot3 14 18 41 e1 = S) := ⟨_, Lib.hid rfl⟩
      obtain ⟨EF, q2⟩ : ∃ S, Hid (e1 &&& f1 = S) := ⟨_, Lib.hid rfl⟩
      obtain ⟨NE, q3⟩ : ∃ S, Hid (~~~e1 = S) := ⟨_, Lib.hid rfl⟩
      obtain ⟨NG, q4⟩ : ∃ S, Hid (NE &&& g1 = S) := ⟨_, Lib.hid rfl⟩
      obtain ⟨CH, q5⟩ : ∃ S, Hid (EF ^^^ NG = S) := ⟨_, Lib.hid rfl⟩
      obtain ⟨H2, q6⟩ : ∃ S, Hid (H1 + CH = S) := ⟨_, Lib.hid rfl⟩
      obtain ⟨H3, q7⟩ : ∃ S, Hid (H2 + kt = S) := ⟨_, Lib.hid rfl⟩
      obtain ⟨T1, q8⟩ : ∃ S, Hid (H3 + wt = S) := ⟨_, Lib.hid rfl⟩
      obtain ⟨RA, r0⟩ : ∃ S, Hid (rot3 28 34 39 a1 = S) := ⟨_, Lib.hid rfl⟩
      obtain ⟨AB, r1⟩ : ∃ S, Hid (a1 &&& b1 = S) := ⟨_, Lib.hid rfl⟩
      obtain ⟨AC, r2⟩ : ∃ S, Hid (a1 &&& c1 = S) := ⟨_, Lib.hid rfl⟩
      obtain ⟨BC, r3⟩ : ∃ S, Hid (b1 &&& c1 = S) := ⟨_, Lib.hid rfl⟩
      obtain ⟨X1, r4⟩ : ∃ S, Hid (AB ^^^ AC = S) := ⟨_, Lib.hid rfl⟩
      obtain ⟨X2, r5⟩ : ∃ S, Hid (X1 ^^^ BC = S) := ⟨_, Lib.hid rfl⟩
      obtain ⟨T2, r6⟩ : ∃ S, Hid (RA + X2 = S) := ⟨_, Lib.hid rfl⟩
      obtain ⟨A2, r7⟩ : ∃ S, Hid (T1 + T2 = S) := ⟨_, Lib.hid rfl⟩
      obtain ⟨E2, r8⟩ : ∃ S, Hid (d1 + T1 = S) := ⟨_, Lib.hid rfl⟩
      have HN2 : Hid (rounds KA W (t + 1) (S8.of [a0, b0, c0, d0, e0, f0, g0, h0]) = ⟨A2, a1, b1, c1, E2, e1, f1, g1⟩) := Lib.hid (by
        rw [HN.out, ← r8.out, ← r7.out, ← r6.out, ← r5.out, ← r4.out, ← r3.out, ← r2.out, ← r1.out, ← r0.out, ← q8.out, ← q7.out, ← q6.out, ← q5.out, ← q4.out, ← q3.out, ← q2.out, ← q1.out]
        rfl)
      clear HN
      have HWB := Lib.hid HWB.out.drew
      have HKB := Lib.hid HKB.out.drew
      go_wp2_with fail
      have hR := Sm.stays
      refine reg_start Sm follows_mixed ?_
-- region 7 of f23: 24 operations, draws: true
      refine reg_take (v := ?_) hR 0 rfl (by kernel_rfl) (by kernel_rfl) (by kernel_rfl) (fun _ _ _ h => h) (by rfl) ?_ ?_
      rotate_left
      · intro W hW; go_simp; try with_reducible rfl
      try simp only [Act.put, List.getElem_toArray, List.getElem_cons_succ, List.getElem_cons_zero, List.setIfInBounds_toArray, List.set_cons_zero, List.set_cons_succ]
      refine reg_take (v := ?_) hR 1 rfl (by kernel_rfl) (by kernel_rfl) (by kernel_rfl) (fun _ _ _ h => h) (by rfl) ?_ ?_
      rotate_left
      · intro W hW; go_simp; try with_reducible rfl
      try simp only [Act.put, List.getElem_toArray, List.getElem_cons_succ, List.getElem_cons_zero, List.setIfInBounds_toArray, List.set_cons_zero, List.set_cons_succ]
      refine reg_take (v := ?_) hR 4 rfl (by kernel_rfl) (by kernel_rfl) (by kernel_rfl) (fun _ _ _ h => h) (by rfl) ?_ ?_
      rotate_left
      · intro W hW; go_simp; try with_reducible rfl
      try simp only [Act.put, List.getElem_toArray, List.getElem_cons_succ, List.getElem_cons_zero, List.setIfInBounds_toArray, List.set_cons_zero, List.set_cons_succ]
      refine reg_take (v := ?_) hR 5 rfl (by kernel_rfl) (by kernel_rfl) (by kernel_rfl) (fun _ _ _ h => h) (by rfl) ?_ ?_
      rotate_left
      · intro W hW; go_simp; try with_reducible rfl
      try simp only [Act.put, List.getElem_toArray, List.getElem_cons_succ, List.getElem_cons_zero, List.setIfInBounds_toArray, List.set_cons_zero, List.set_cons_succ]
      refine reg_take (v := .int .u64 (EF.toNat : Int)) hR 6 rfl (by kernel_rfl) (by kernel_rfl) (by kernel_rfl) (fun _ _ _ h => h) (by rfl) ?_ ?_
      · intro W hW; exact exec_and64 _ _ rfl q2.out rfl rfl
      try simp only [Act.put, List.getElem_toArray, List.getElem_cons_succ, List.getElem_cons_zero, List.setIfInBounds_toArray, List.set_cons_zero, List.set_cons_succ]
      refine reg_take (v := ?_) hR 7 rfl (by kernel_rfl) (by kernel_rfl) (by kernel_rfl) (fun _ _ _ h => h) (by rfl) ?_ ?_
      rotate_left
      · intro W hW; go_simp; try with_reducible rfl
      try simp only [Act.put, List.getElem_toArray, List.getElem_cons_succ, List.getElem_cons_zero, List.setIfInBounds_toArray, List.set_cons_zero, List.set_cons_succ]
      refine reg_take (v := .int .u64 (NE.toNat : Int)) hR 8 rfl (by kernel_rfl) (by kernel_rfl) (by kernel_rfl) (fun _ _ _ h => h) (by rfl) ?_ ?_
      · intro W hW; exact exec_not64 _ rfl q3.out rfl
      try simp only [Act.put, List.getElem_toArray, List.getElem_cons_succ, List.getElem_cons_zero, List.setIfInBounds_toArray, List.set_cons_zero, List.set_cons_succ]
      refine reg_take (v := ?_) hR 9 rfl (by kernel_rfl) (by kernel_rfl) (by kernel_rfl) (fun _ _ _ h => h) (by rfl) ?_ ?_
      rotate_left
      · intro W hW; go_simp; try with_reducible rfl
      try simp only [Act.put, List.getElem_toArray, List.getElem_cons_succ, List.getElem_cons_zero, List.setIfInBounds_toArray, List.set_cons_zero, List.set_cons_succ]
      refine reg_take (v := .int .u64 (NG.toNat : Int)) hR 10 rfl (by kernel_rfl) (by kernel_rfl) (by kernel_rfl) (fun _ _ _ h => h) (by rfl) ?_ ?_
      · intro W hW; exact exec_and64 _ _ rfl q4.out rfl rfl
      try simp only [Act.put, List.getElem_toArray, List.getElem_cons_succ, List.getElem_cons_zero, List.setIfInBounds_toArray, List.set_cons_zero, List.set_cons_succ]
      refine reg_take (v := .int .u64 (CH.toNat : Int)) hR 11 rfl (by kernel_rfl) (by kernel_rfl) (by kernel_rfl) (fun _ _ _ h => h) (by rfl) ?_ ?_
      · intro W hW; exact exec_xor64 _ _ rfl q5.out rfl rfl
      try simp only [Act.put, List.getElem_toArray, List.getElem_cons_succ, List.getElem_cons_zero, List.setIfInBounds_toArray, List.set_cons_zero, List.set_cons_succ]
      refine reg_take (v := ?_) hR 13 rfl (by kernel_rfl) (by kernel_rfl) (by kernel_rfl) (fun _ _ _ h => h) (by rfl) ?_ ?_
      rotate_left
      · intro W hW; go_simp; try with_reducible rfl
      try simp only [Act.put, List.getElem_toArray, List.getElem_cons_succ, List.getElem_cons_zero, List.setIfInBounds_toArray, List.set_cons_zero, List.set_cons_succ]
      refine reg_take (v := ?_) hR 14 rfl (by kernel_rfl) (by kernel_rfl) (by kernel_rfl) (fun _ _ _ h => h) (by rfl) ?_ ?_
      rotate_left
      · intro W hW; go_simp; try with_reducible rfl
      try simp only [Act.put, List.getElem_toArray, List.getElem_cons_succ, List.getElem_cons_zero, List.setIfInBounds_toArray, List.set_cons_zero, List.set_cons_succ]
      refine reg_take (v := ?_) hR 15 rfl (by kernel_rfl) (by kernel_rfl) (by kernel_rfl) (fun _ _ _ h => h) (by rfl) ?_ ?_
      rotate_left
      · intro W hW; go_simp; try with_reducible rfl
      try simp only [Act.put, List.getElem_toArray, List.getElem_cons_succ, List.getElem_cons_zero, List.setIfInBounds_toArray, List.set_cons_zero, List.set_cons_succ]
      refine reg_take (v := .pointer (some ⟨gk, t, none⟩)) hR 16 rfl (by kernel_rfl) (by kernel_rfl) (by kernel_rfl) (fun _ _ _ h => h) (by rfl) ?_ ?_
      · intro W hW; exact exec_at64 97 _ _ rfl Tryd.underlying97 rfl rfl (by omega)
      try simp only [Act.put, List.getElem_toArray, List.getElem_cons_succ, List.getElem_cons_zero, List.setIfInBounds_toArray, List.set_cons_zero, List.set_cons_succ]
      refine reg_take (v := .int .u64 (kt.toNat : Int)) hR 17 rfl (by kernel_rfl) (by kernel_rfl) (by kernel_rfl) (fun _ _ _ h => h) (by rfl) ?_ ?_
      · intro W hW; rw [show W = _ from hW]; exact exec_load_cell 78 _ rfl Tryd.isAgg78 rfl (HKB.out.cell hkt.out)
      try simp only [Act.put, List.getElem_toArray, List.getElem_cons_succ, List.getElem_cons_zero, List.setIfInBounds_toArray, List.set_cons_zero, List.set_cons_succ]
      refine reg_take (v := ?_) hR 19 rfl (by kernel_rfl) (by kernel_rfl) (by kernel_rfl) (fun _ _ _ h => h) (by rfl) ?_ ?_
      rotate_left
      · intro W hW; go_simp; try with_reducible rfl
      try simp only [Act.put, List.getElem_toArray, List.getElem_cons_succ, List.getElem_cons_zero, List.setIfInBounds_toArray, List.set_cons_zero, List.set_cons_succ]
      refine reg_take (v := .pointer (some ⟨w1.heap.size, t, none⟩)) hR 20 rfl (by kernel_rfl) (by kernel_rfl) (by kernel_rfl) (fun _ _ _ h => h) (by rfl) ?_ ?_
      · intro W hW; exact exec_at64 97 _ _ rfl Tryd.underlying97 rfl rfl (by omega)
      try simp only [Act.put, List.getElem_toArray, List.getElem_cons_succ, List.getElem_cons_zero, List.setIfInBounds_toArray, List.set_cons_zero, List.set_cons_succ]
      refine reg_take (v := .int .u64 (wt.toNat : Int)) hR 21 rfl (by kernel_rfl) (by kernel_rfl) (by kernel_rfl) (fun _ _ _ h => h) (by rfl) ?_ ?_
      · intro W hW; rw [show W = _ from hW]; exact exec_load_cell 78 _ rfl Tryd.isAgg78 rfl (HWB.out.cell hwt.out)
      try simp only [Act.put, List.getElem_toArray, List.getElem_cons_succ, List.getElem_cons_zero, List.setIfInBounds_toArray, List.set_cons_zero, List.set_cons_succ]
      -- STEP 2: Op.call { callee := Callee.value (Operand.func 97), args := #[t43, Operand.const (Value.int IntKind.i64 14), O
      refine reg_step hR 2 (by kernel_rfl) rfl fun K hK => ?_
      try simp only [Act.put, List.getElem_toArray, List.getElem_cons_succ, List.getElem_cons_zero, List.setIfInBounds_toArray, List.set_cons_zero, List.set_cons_succ]
      go_simp
      refine (rot3_any e1 14 18 41 (by decide) (by decide) (by decide) _).mono ?_; rintro e w2 ⟨rfl, rfl⟩
      refine hK.out _ _ ?_ ?_
      · exact rfl
      clear hK K
      try simp only [Act.put, List.getElem_toArray, List.getElem_cons_succ, List.getElem_cons_zero, List.setIfInBounds_toArray, List.set_cons_zero, List.set_cons_succ]
      refine reg_take (v := .int .u64 (H1.toNat : Int)) hR 3 rfl (by kernel_rfl) (by kernel_rfl) (by kernel_rfl) (fun _ _ _ h => h) (by rfl) ?_ ?_
      · intro W hW; exact exec_add64 _ _ rfl q1.out rfl rfl
      try simp only [Act.put, List.getElem_toArray, List.getElem_cons_succ, List.getElem_cons_zero, List.setIfInBounds_toArray, List.set_cons_zero, List.set_cons_succ]
      refine reg_take (v := .int .u64 (H2.toNat : Int)) hR 12 rfl (by kernel_rfl) (by kernel_rfl) (by kernel_rfl) (fun _ _ _ h => h) (by rfl) ?_ ?_
      · intro W hW; exact exec_add64 _ _ rfl q6.out rfl rfl
      try simp only [Act.put, List.getElem_toArray, List.getElem_cons_succ, List.getElem_cons_zero, List.setIfInBounds_toArray, List.set_cons_zero, List.set_cons_succ]
      refine reg_take (v := .int .u64 (H3.toNat : Int)) hR 18 rfl (by kernel_rfl) (by kernel_rfl) (by kernel_rfl) (fun _ _ _ h => h) (by rfl) ?_ ?_
      · intro W hW; exact exec_add64 _ _ rfl q7.out rfl rfl
      try simp only [Act.put, List.getElem_toArray, List.getElem_cons_succ, List.getElem_cons_zero, List.setIfInBounds_toArray, List.set_cons_zero, List.set_cons_succ]
      refine reg_take (v := .int .u64 (T1.toNat : Int)) hR 22 rfl (by kernel_rfl) (by kernel_rfl) (by kernel_rfl) (fun _ _ _ h => h) (by rfl) ?_ ?_
      · intro W hW; exact exec_add64 _ _ rfl q8.out rfl rfl
      try simp only [Act.put, List.getElem_toArray, List.getElem_cons_succ, List.getElem_cons_zero, List.setIfInBounds_toArray, List.set_cons_zero, List.set_cons_succ]
      refine reg_take (v := ?_) hR 23 rfl (by kernel_rfl) (by kernel_rfl) (by kernel_rfl) (fun _ _ _ h => h) (by rfl) ?_ ?_
      rotate_left
      · intro W hW; go_simp; try with_reducible rfl
      try simp only [Act.put, List.getElem_toArray, List.getElem_cons_succ, List.getElem_cons_zero, List.setIfInBounds_toArray, List.set_cons_zero, List.set_cons_succ]
      refine reg_done (by kernel_rfl) ?_ _

      have p1 : bits .and .u64 (a1.toNat : Int) (b1.toNat : Int) = (AB.toNat : Int) := by rw [andU, r1.out]
      have p2 : bits .and .u64 (a1.toNat : Int) (c1.toNat : Int) = (AC.toNat : Int) := by rw [andU, r2.out]
      have p3 : bits .and .u64 (b1.toNat : Int) (c1.toNat : Int) = (BC.toNat : Int) := by rw [andU, r3.out]
      have p4 : bits .xor .u64 (AB.toNat : Int) (AC.toNat : Int) = (X1.toNat : Int) := by rw [xorU, r4.out]
      have p5 : bits .xor .u64 (X1.toNat : Int) (BC.toNat : Int) = (X2.toNat : Int) := by rw [xorU, r5.out]
      have p6 : IntKind.u64.wrap ((RA.toNat : Int) + (X2.toNat : Int)) = (T2.toNat : Int) := by rw [addU, r6.out]
      have p7 : IntKind.u64.wrap ((T1.toNat : Int) + (T2.toNat : Int)) = (A2.toNat : Int) := by rw [addU, r7.out]
      have p8 : IntKind.u64.wrap ((d1.toNat : Int) + (T1.toNat : Int)) = (E2.toNat : Int) := by rw [addU, r8.out]
      have HR3 := Lib.hid (rot3_any a1 28 34 39 (by decide) (by decide) (by decide))
      rw [r0.out] at HR3
      have HB := Lib.hid HB.out.drew
      have HST := Lib.hid HST.out.drew
      have HRE := Lib.hid HRE.out.drew
      clear q1 q2 q3 q4 q5 q6 q7 q8 r0 r1 r2 r3 r4 r5 r6 r7 r8 hkt hwt
      go_wp2_with fail
      refine (HR3.out _).mono ?_; rintro e w2 ⟨rfl, rfl⟩
      go_wp2
      go_roundw
      case rel => exact ⟨t + 1, ⟨A2, a1, b1, c1, E2, e1, f1, g1⟩, by omega, by go_num, rfl, rfl, rfl, rfl, rfl, rfl, rfl, rfl, Lib.hid HN2.out.symm, HB, HWB, HST, HRE, HKB⟩
      case measure => simp [intOf]; omega
    · obtain rfl : t = 80 := by omega
      have HL8 : Hid (R = List.zipWith (· + ·) [a0, b0, c0, d0, e0, f0, g0, h0] [a1, b1, c1, d1, e1, f1, g1, h1]) := Lib.hid (by rw [HM.out, ← HRN.out]; rfl)
      clear HRN HM HWB HKB
      generalize hst : [a0, b0, c0, d0, e0, f0, g0, h0] = st at HST HL8
      have hstl : st.length = 8 := by rw [← hst]; rfl
      generalize hml : [a1, b1, c1, d1, e1, f1, g1, h1] = ml at HL8
      have hmll : ml.length = 8 := by rw [← hml]; rfl
      have HML := Lib.hid hml
      have HSTL := Lib.hid hstl
      have HMLL := Lib.hid hmll
      clear hst hml hstl hmll
      go_wp2
      go_loopw [101] (fun vi wr => ∃ t : Nat, t ≤ 8 ∧ vi = .int .i64 (t : Int) ∧ Hid (Below w.heap.size w wr) ∧ Hid (Bk wr w.heap.size (cs64 (addT st ml t))) ∧ Hid (Bk wr (w.heap.size + 1 + 1) z38)) (fun v _ => 8 - (intOf v).toNat)
      case atStart => exact ⟨0, by omega, rfl, HB, Lib.hid (by simpa [addT] using HST.out), HRE⟩
      case round =>
        clear HB HST HRE
        obtain ⟨t, ht, rfl, HB, HST, HRE⟩ := hrel
        by_cases hlt : t < 8
        · have hx : ∀ W, (Instr.index 87 (.agg #[.int .u64 (a1.toNat : Int), .int .u64 (b1.toNat : Int), .int .u64 (c1.toNat : Int), .int .u64 (d1.toNat : Int), .int .u64 (e1.toNat : Int), .int .u64 (f1.toNat : Int), .int .u64 (g1.toNat : Int), .int .u64 (h1.toNat : Int)]) (.int .i64 (t : Int))).run Tryd.prog W = .ok (.int .u64 ((ml[t]'(by rw [HMLL.out]; exact hlt)).toNat : Int)) W := by
            refine run_index64 Tryd.underlying87 hlt ?_
            rw [show #[Value.int .u64 (a1.toNat : Int), .int .u64 (b1.toNat : Int), .int .u64 (c1.toNat : Int), .int .u64 (d1.toNat : Int), .int .u64 (e1.toNat : Int), .int .u64 (f1.toNat : Int), .int .u64 (g1.toNat : Int), .int .u64 (h1.toNat : Int)] = (cs64 [a1, b1, c1, d1, e1, f1, g1, h1]).toArray from rfl, HML.out]
            simp [cs64, HMLL.out, hlt, B64]
          have hc : wr.cell? ⟨w.heap.size, t, none⟩ = some (.int .u64 ((st[t]'(by rw [HSTL.out]; exact hlt)).toNat : Int)) := by
            refine HST.out.cell ?_
            rw [cs64, List.getElem?_map, addT_at st ml HSTL.out HMLL.out t hlt, List.getElem?_eq_getElem (by rw [HSTL.out]; exact hlt)]
            rfl
          have hf := HST.out.frozen t
          have HSET := Lib.hid (addT_set st ml HSTL.out HMLL.out t hlt)
          generalize st[t]'(by rw [HSTL.out]; exact hlt) = x1 at hc HSET
          generalize ml[t]'(by rw [HMLL.out]; exact hlt) = x2 at hx HSET
          obtain ⟨x3, hx3⟩ : ∃ S, x1 + x2 = S := ⟨_, rfl⟩
          have hadd : IntKind.u64.wrap ((x1.toNat : Int) + (x2.toNat : Int)) = (x3.toNat : Int) := by rw [addU, hx3]
          rw [hx3] at HSET
          clear hx3
          go_wp2
          go_roundw
          case rel =>
            refine ⟨t + 1, by omega, by go_num, Lib.hid (bl_setCell HB.out (Nat.le_refl _) _ _), Lib.hid ?_, Lib.hid (HRE.out.setCell_ne (by omega) _ _)⟩
            rw [← HSET.out, cs64, List.map_set]
            exact HST.out.setCell _ _
          case measure => simp [intOf]; omega
        · obtain rfl : t = 8 := by omega
          have HR : Hid (Bk wr w.heap.size (cs64 R)) := Lib.hid (by rw [HL8.out, ← addT_all st ml HSTL.out HMLL.out]; exact HST.out)
          have HRL : Hid ((cs64 R).length = 8) := Lib.hid (by rw [cs64_length, HL8.out]; simp [HSTL.out, HMLL.out])
          go_wp2_with (first | (refine wpList_load_at rfl 87 _ rfl _ rfl (cs64 R) _ (HR.out.at_) Tryd.underlying87 rfl (by rw [HRL.out]; exact info38) ?_) | (refine wpList_store_bk rfl 87 _ _ rfl (w.heap.size + 1 + 1) rfl (cs64 R) z38 rfl HRE.out (by rw [HRL.out]; exact info38) (by rw [HRL.out]; exact len_z38) (cs64_one _) ?_))
          exact ret_bk rfl (w.heap.size + 1 + 1) _ _ rfl rfl (HRE.out.setRow _) Tryd.underlying87 rfl (by rw [HRL.out]; exact info38) ⟨rfl, bl_setRow HB.out (by omega) _⟩
end Go.Proofs.YtdfihpnmiiaflaaDoor
