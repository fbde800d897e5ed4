/- A root, bit by bit: behindPoint, Root, Cube. -/
import Derived.Test.YtgpgolegedfjfaaRs
import Derived.Test.YtgpgolegedfjfaaPut
namespace Go.Proofs.Ytgpgolegedfjfaa
open Go.RowKit

/-- The bit i set. -/
def bitSet (r : List UInt64) (i : Nat) : List UInt64 := r.set (i / 64) ((r.getD (i / 64) 0) ||| UInt64.ofNat (2 ^ (i % 64)))
def tryBit (mo r : List UInt64) (q i : Nat) : List UInt64 := if abv (raiseT (bitSet r i) q) mo 4 then r else bitSet r i
/-- The root behind its highest t bits of 80. -/
def rootT (mo : List UInt64) (q : Nat) : Nat → List UInt64
  | 0 => [0, 0, 0, 0]
  | t + 1 => tryBit mo (rootT mo q t) q (79 - t)
def mostOf (n q : Nat) : List UInt64 := [0, 0, 0, 0].set (q + 1) (UInt64.ofNat (n % 4294967296))
def behindT (n q : Nat) : UInt64 := (rootT (mostOf n q) q 80).getD 0 0

theorem exec_or64 {o : Oper} {a : Act} {w : World} (x y : Operand) (ho : o.op = .binOp .or 24 x y 24) {m n s : UInt64} (h : m ||| n = s) (hx : a.eval x = .int .u64 (m.toNat : Int)) (hy : a.eval y = .int .u64 (n.toNat : Int)) :
    (execOp a.eval o).run Try.prog w = .ok (.value (.int .u64 (s.toNat : Int))) w := by
  have e := orU m n
  rw [h] at e
  unfold execOp
  simp only [ho, hx, hy]
  simp [go_sem, e]
theorem Kp.of_cellG {g : Nat} {w : World} (k : Nat) (u : Value) : Kp (· = g) w (w.setCell ⟨g, k, none⟩ u) := ⟨rfl, rfl, rfl, by simp [World.setCell], fun j _ hn => heap_setCell_other w ⟨g, k, none⟩ j u hn⟩
theorem bitSet_length (r : List UInt64) (i : Nat) : (bitSet r i).length = r.length := by simp [bitSet]
theorem rootT_length (mo : List UInt64) (q : Nat) : ∀ t, (rootT mo q t).length = 4
  | 0 => rfl
  | t + 1 => by
    rw [rootT, tryBit]
    split
    · exact rootT_length mo q t
    · rw [bitSet_length]; exact rootT_length mo q t

theorem shl_one (k : Nat) (hk : k < 64) : IntKind.u64.wrap (2 ^ k) = ((UInt64.ofNat (2 ^ k)).toNat : Int) := by
  have hpw : (2 : Nat) ^ k < 18446744073709551616 := Nat.lt_of_lt_of_le (Nat.pow_lt_pow_right (by omega) hk) (by decide)
  have e : ((2 : Int) ^ k) = ((2 ^ k : Nat) : Int) := by simp
  rw [toNat_of hpw, e, wrapN, Nat.mod_eq_of_lt hpw]

set_option maxHeartbeats 1600000 in
set_option maxRecDepth 4096 in
theorem behind_any (n : UInt64) (q : Nat) (hq : q ≤ 2) (w : World) : Calls Try.prog 19 #[.int .u64 (n.toNat : Int), .int .i64 ((q + 1 : Nat) : Int)] w fun e w' => e = .returned (.int .u64 ((behindT n.toNat q).toNat : Int)) ∧ Below w.heap.size w w' := by
  obtain ⟨mo, hmo⟩ : ∃ mo, mostOf n.toNat q = mo := ⟨_, rfl⟩
  have HMO := Lib.hid hmo
  have HMOL := Lib.hid (show (cs64 mo).length = 4 by rw [cs64_length, ← hmo]; simp [mostOf])
  have hml : mo.length = 4 := by rw [← hmo]; simp [mostOf]
  have HMLL := Lib.hid hml
  have HBT := Lib.hid (show behindT n.toNat q = (rootT mo q 80).getD 0 0 from by rw [behindT, hmo])
  have HRTL := Lib.hid (rootT_length mo q)
  have hn := n.toNat_lt
  clear hmo hml
  have HB0 := Lib.hid (bl_alloc (bl_alloc (bl0 w) (.cells z56.toArray 56)) (.cells z56.toArray 56))
  have HA0 := Lib.hid ((Bk.new w z56 56).old (.cells z56.toArray 56))
  have HR0 : Hid (Bk ((w.alloc (.cells z56.toArray 56)).alloc (.cells z56.toArray 56)) (w.heap.size + 1) z56) := Lib.hid (by
    have := Bk.new (w.alloc (.cells z56.toArray 56)) z56 56
    simpa using this)
  have hc0 := HA0.out.cell (k := q + 1) (v := .int .u64 0) (by rw [z56]; rcases q with _ | _ | _ | q <;> first | rfl | omega)
  have hf0 := HA0.out.frozen (q + 1)
  go_enter Try.func19, Try.ntmps19
  go_wp2_with (first | (refine wpList_alloc_z rfl 56 rfl z56 zero56 ?_) | fail)
  have HMB : Hid (Bk ((w.alloc (.cells (z56.set (q + 1) (.int .u64 ((n.toNat : Int) % 4294967296))).toArray 56)).alloc (.cells z56.toArray 56)) w.heap.size (cs64 mo)) := Lib.hid (by
    have e : cs64 mo = z56.set (q + 1) (.int .u64 ((n.toNat : Int) % 4294967296)) := by
      have hv : B64 (UInt64.ofNat (n.toNat % 4294967296)) = .int .u64 ((n.toNat : Int) % 4294967296) := by
        rw [B64, toNat_of (by omega)]; simp
      rw [← hv, ← HMO.out, mostOf, cs64, List.map_set]
      rfl
    rw [e]
    exact (Bk.new w _ 56).old _)
  have HRB : Hid (Bk ((w.alloc (.cells (z56.set (q + 1) (.int .u64 ((n.toNat : Int) % 4294967296))).toArray 56)).alloc (.cells z56.toArray 56)) (w.heap.size + 1) (cs64 (rootT mo q 0))) := Lib.hid (by
    have := Bk.new (w.alloc (.cells (z56.set (q + 1) (.int .u64 ((n.toNat : Int) % 4294967296))).toArray 56)) z56 56
    rw [show cs64 (rootT mo q 0) = z56 from rfl]
    simpa using this)
  have HB1 := Lib.hid (bl_alloc (bl_alloc (bl0 w) (.cells (z56.set (q + 1) (.int .u64 ((n.toNat : Int) % 4294967296))).toArray 56)) (.cells z56.toArray 56))
  clear HB0 HA0 HR0 hc0 hf0
  go_loopw [7] (fun v7 wr => ∃ (t : Nat) (r : List UInt64), t ≤ 80 ∧ v7 = .int .i64 (79 - (t : Int)) ∧ Hid (rootT mo q t = r) ∧ Hid (Bk wr w.heap.size (cs64 mo)) ∧ Hid (Bk wr (w.heap.size + 1) (cs64 r)) ∧ Hid (Below w.heap.size w wr)) (fun v7 _ => (intOf v7 + 1).toNat)
  case atStart => exact ⟨0, _, by omega, rfl, Lib.hid rfl, HMB, HRB, HB1⟩
  case round =>
    clear HMB HRB HB1
    obtain ⟨t, r, ht, rfl, HRR, HMO2, HRT2, HBW⟩ := hrel
    have HRL : Hid ((cs64 r).length = 4) := Lib.hid (by rw [cs64_length, ← HRR.out, HRTL.out])
    have hrl : Hid (r.length = 4) := Lib.hid (by rw [← HRR.out, HRTL.out])
    by_cases hlt : t < 80
    · obtain ⟨i, hi⟩ : ∃ i : Nat, i = 79 - t := ⟨_, rfl⟩
      have hi79 : i ≤ 79 := by omega
      rw [show (79 : Int) - (t : Int) = (i : Int) from by omega]
      have HN := Lib.hid (show rootT mo q (t + 1) = tryBit mo r q i from by rw [rootT, HRR.out, hi])
      have HTI : Hid (79 - ((t + 1 : Nat) : Int) = (i : Int) - 1) := Lib.hid (by omega)
      have ht1 : t + 1 ≤ 80 := by omega
      clear hi hlt
      have hBs := HBW.out.size
      have HZ := Lib.hid (Bk.new wr z56 56)
      go_wp2_with (first | (refine wpList_alloc_z rfl 56 rfl z56 zero56 ?_) | (refine wpList_load_at rfl 56 _ rfl ⟨w.heap.size + 1, 0, none⟩ rfl (cs64 r) _ (HRT2.out.at_) Try.underlying56 rfl (by rw [HRL.out]; exact info56) ?_) | (refine wpList_store_bk rfl 56 _ _ rfl wr.heap.size rfl (cs64 r) z56 rfl HZ.out (by rw [HRL.out]; exact info56) (by rw [HRL.out]; exact len_z56) (cs64_one _) ?_))
      have hrt := HRT2.out.lt
      have HM0 := Lib.hid (HZ.out.setRow (cs64 r))
      have HMO3 := Lib.hid ((HMO2.out.old (.cells z56.toArray 56)).other (show w.heap.size ≠ wr.heap.size by omega) (cs64 r).toArray)
      have HRT3 := Lib.hid ((HRT2.out.old (.cells z56.toArray 56)).other (show w.heap.size + 1 ≠ wr.heap.size by omega) (cs64 r).toArray)
      have HB3 := Lib.hid (bl_setRow (bl_alloc HBW.out (.cells z56.toArray 56)) (show w.heap.size ≤ wr.heap.size by omega) (cs64 r).toArray)
      generalize (wr.alloc (.cells z56.toArray 56)).setRow wr.heap.size (cs64 r).toArray = w3 at HM0 HMO3 HRT3 HB3 ⊢
      have hg2 : w.heap.size + 2 ≤ wr.heap.size := by omega
      generalize wr.heap.size = g at HM0 hg2 ⊢
      clear HZ HMO2 HRT2 HBW hrt hBs
      have HM := Lib.hid HM0.out.drew
      have q1 : Hid ((i : Int).tdiv 64 = ((i / 64 : Nat) : Int)) := Lib.hid (by rw [Int.tdiv_eq_ediv_of_nonneg (by omega)]; omega)
      have q2 : Hid ((i : Int).tmod 64 = ((i % 64 : Nat) : Int)) := Lib.hid (by rw [Int.tmod_eq_emod_of_nonneg (by omega)]; omega)
      have hod := Lib.hid (cells64_at r (i / 64) (by rw [hrl.out]; omega))
      have HBS := Lib.hid (show bitSet r i = r.set (i / 64) ((r.getD (i / 64) 0) ||| UInt64.ofNat (2 ^ (i % 64))) from rfl)
      have q3 := Lib.hid (shl_one (i % 64) (by omega))
      generalize UInt64.ofNat (2 ^ (i % 64)) = pw at q3 HBS
      generalize r.getD (i / 64) 0 = od at hod HBS
      obtain ⟨nw, q4⟩ : ∃ nw, Hid (od ||| pw = nw) := ⟨_, Lib.hid rfl⟩
      rw [q4.out] at HBS
      have hRk := Kp.stays (· = g)
      refine reg_start (Kp (· = g)) follows_mixed ?_
-- region 7 of f19: 10 operations, draws: true
      refine reg_take (v := ?_) hRk 0 rfl (by kernel_rfl) (by kernel_rfl) (by kernel_rfl) (fun _ _ _ h => h) (by rfl) ?_ ?_
      rotate_left
      · intro W hW; go_simp; try with_reducible rfl
      try simp only [Act.put, List.getElem_toArray, List.getElem_cons_succ, List.getElem_cons_zero, List.setIfInBounds_toArray, List.set_cons_zero, List.set_cons_succ]
      refine reg_take (v := .int .i64 ((i / 64 : Nat) : Int)) hRk 1 rfl (by kernel_rfl) (by kernel_rfl) (by kernel_rfl) (fun _ _ _ h => h) (by rfl) ?_ ?_
      · intro W hW; go_simp; rw [IntKind.wrap_i64]; omega
      try simp only [Act.put, List.getElem_toArray, List.getElem_cons_succ, List.getElem_cons_zero, List.setIfInBounds_toArray, List.set_cons_zero, List.set_cons_succ]
      refine reg_take (v := .pointer (some ⟨g, i / 64, none⟩)) hRk 2 rfl (by kernel_rfl) (by kernel_rfl) (by kernel_rfl) (fun _ _ _ h => h) (by rfl) ?_ ?_
      · intro W hW; exact exec_at64 56 _ _ rfl Try.underlying56 rfl rfl (by omega)
      try simp only [Act.put, List.getElem_toArray, List.getElem_cons_succ, List.getElem_cons_zero, List.setIfInBounds_toArray, List.set_cons_zero, List.set_cons_succ]
      refine reg_take (v := ?_) hRk 4 rfl (by kernel_rfl) (by kernel_rfl) (by kernel_rfl) (fun _ _ _ h => h) (by rfl) ?_ ?_
      rotate_left
      · intro W hW; go_simp; try with_reducible rfl
      try simp only [Act.put, List.getElem_toArray, List.getElem_cons_succ, List.getElem_cons_zero, List.setIfInBounds_toArray, List.set_cons_zero, List.set_cons_succ]
      refine reg_take (v := .int .i64 ((i % 64 : Nat) : Int)) hRk 5 rfl (by kernel_rfl) (by kernel_rfl) (by kernel_rfl) (fun _ _ _ h => h) (by rfl) ?_ ?_
      · intro W hW; go_simp; rw [Int.tmod_eq_emod_of_nonneg (by omega)]
      try simp only [Act.put, List.getElem_toArray, List.getElem_cons_succ, List.getElem_cons_zero, List.setIfInBounds_toArray, List.set_cons_zero, List.set_cons_succ]
      refine reg_take (v := .int .u64 (pw.toNat : Int)) hRk 6 rfl (by kernel_rfl) (by kernel_rfl) (by kernel_rfl) (fun _ _ _ h => h) (by rfl) ?_ ?_
      · intro W hW; go_simp; first | exact q3.out | exact q3.out.symm
      try simp only [Act.put, List.getElem_toArray, List.getElem_cons_succ, List.getElem_cons_zero, List.setIfInBounds_toArray, List.set_cons_zero, List.set_cons_succ]
      -- STEP 3: Op.load 24 (t21)
      refine reg_step hRk 3 (by kernel_rfl) rfl fun K hK => ?_
      try simp only [Act.put, List.getElem_toArray, List.getElem_cons_succ, List.getElem_cons_zero, List.setIfInBounds_toArray, List.set_cons_zero, List.set_cons_succ]
      rw [if_pos (by rfl)]
      refine wp_load_cell 24 _ rfl Try.isAgg24 rfl (HM.out.cell hod.out) ?_
      refine hK.out _ _ ?_ ?_
      · exact (Kp.stays _).refl _
      clear hK K
      try simp only [Act.put, List.getElem_toArray, List.getElem_cons_succ, List.getElem_cons_zero, List.setIfInBounds_toArray, List.set_cons_zero, List.set_cons_succ]
      refine reg_take (v := .int .u64 (nw.toNat : Int)) hRk 7 rfl (by kernel_rfl) (by kernel_rfl) (by kernel_rfl) (fun _ _ _ h => h) (by rfl) ?_ ?_
      · intro W hW; exact exec_or64 _ _ rfl q4.out rfl rfl
      try simp only [Act.put, List.getElem_toArray, List.getElem_cons_succ, List.getElem_cons_zero, List.setIfInBounds_toArray, List.set_cons_zero, List.set_cons_succ]
      refine reg_take (v := .pointer (some ⟨g, i / 64, none⟩)) hRk 8 rfl (by kernel_rfl) (by kernel_rfl) (by kernel_rfl) (fun _ _ _ h => h) (by rfl) ?_ ?_
      · intro W hW; exact exec_at64 56 _ _ rfl Try.underlying56 rfl rfl (by omega)
      try simp only [Act.put, List.getElem_toArray, List.getElem_cons_succ, List.getElem_cons_zero, List.setIfInBounds_toArray, List.set_cons_zero, List.set_cons_succ]
      -- STEP 9: Op.store 24 (t27) (t26)
      refine reg_step hRk 9 (by kernel_rfl) rfl fun K hK => ?_
      try simp only [Act.put, List.getElem_toArray, List.getElem_cons_succ, List.getElem_cons_zero, List.setIfInBounds_toArray, List.set_cons_zero, List.set_cons_succ]
      rw [if_pos (by rfl)]
      refine wp_store_cell _ _ rfl rfl rfl HM.out (by rw [HRL.out]; omega) ?_
      refine hK.out _ _ ?_ ?_
      · exact Kp.of_cellG _ _
      clear hK K
      try simp only [Act.put, List.getElem_toArray, List.getElem_cons_succ, List.getElem_cons_zero, List.setIfInBounds_toArray, List.set_cons_zero, List.set_cons_succ]
      refine reg_done (by kernel_rfl) ?_ _


      have HMX : Hid (Bk (w3.drew.setCell ⟨g, i / 64, none⟩ (.int .u64 (nw.toNat : Int))) g (cs64 (bitSet r i))) := Lib.hid (by
        rw [HBS.out, cs64, List.map_set]
        exact HM.out.setCell _ _)
      have HMO4 : Hid (Bk (w3.drew.setCell ⟨g, i / 64, none⟩ (.int .u64 (nw.toNat : Int))) w.heap.size (cs64 mo)) := Lib.hid (HMO3.out.drew.setCell_ne (by omega) _ _)
      have HRT4 : Hid (Bk (w3.drew.setCell ⟨g, i / 64, none⟩ (.int .u64 (nw.toNat : Int))) (w.heap.size + 1) (cs64 r)) := Lib.hid (HRT3.out.drew.setCell_ne (by omega) _ _)
      have HB4 : Hid (Below w.heap.size w (w3.drew.setCell ⟨g, i / 64, none⟩ (.int .u64 (nw.toNat : Int)))) := Lib.hid (bl_setCell HB3.out.drew (by omega) _ _)
      generalize w3.drew.setCell ⟨g, i / 64, none⟩ (.int .u64 (nw.toNat : Int)) = w4 at HMX HMO4 HRT4 HB4 ⊢
      have hbl : Hid ((bitSet r i).length = 4) := Lib.hid (by rw [bitSet_length, hrl.out])
      have HML : Hid ((cs64 (bitSet r i)).length = 4) := Lib.hid (by rw [cs64_length, hbl.out])
      have HRA := Lib.hid (raised_any (bitSet r i) q hbl.out (by omega))
      have HAB := Lib.hid (above_any (raiseT (bitSet r i) q) mo (raiseT_length _ hbl.out q) HMLL.out)
      have HTB := Lib.hid (show tryBit mo r q i = if abv (raiseT (bitSet r i) q) mo 4 then r else bitSet r i from rfl)
      generalize abv (raiseT (bitSet r i) q) mo 4 = AB at HAB HTB
      generalize raiseT (bitSet r i) q = RZ at HRA HAB
      generalize bitSet r i = M at HMX HML HRA HTB
      rw [show ((q + 1 : Nat) : Int) = (q : Int) + 1 from by omega] at HRA
      clear HM HM0 HMO3 HRT3 HB3 q1 q2 q3 q4 hod HBS
      go_wp2_with fail
      have HM2 := Lib.hid HMX.out.drew
      have HMO2 := Lib.hid HMO4.out.drew
      refine reg_start Old follows_mixed ?_
      have hRo := Old.stays
-- region 8 of f19: 6 operations, draws: true
      refine reg_take (v := .agg (cs64 M).toArray) hRo 0 rfl (by kernel_rfl) (by kernel_rfl) (by kernel_rfl) (fun _ _ _ h => h) (by rfl) ?_ ?_
      · intro W hW; exact exec_load_at 56 _ rfl ⟨g, 0, none⟩ rfl (cs64 M) _ ((HM2.out.keep hW).at_) Try.underlying56 rfl (by rw [HML.out]; exact info56)
      try simp only [Act.put, List.getElem_toArray, List.getElem_cons_succ, List.getElem_cons_zero, List.setIfInBounds_toArray, List.set_cons_zero, List.set_cons_succ]
      refine reg_take (v := ?_) hRo 1 rfl (by kernel_rfl) (by kernel_rfl) (by kernel_rfl) (fun _ _ _ h => h) (by rfl) ?_ ?_
      rotate_left
      · intro W hW; go_simp; try with_reducible rfl
      try simp only [Act.put, List.getElem_toArray, List.getElem_cons_succ, List.getElem_cons_zero, List.setIfInBounds_toArray, List.set_cons_zero, List.set_cons_succ]
      refine reg_take (v := .agg (cs64 mo).toArray) hRo 3 rfl (by kernel_rfl) (by kernel_rfl) (by kernel_rfl) (fun _ _ _ h => h) (by rfl) ?_ ?_
      · intro W hW; exact exec_load_at 56 _ rfl ⟨w.heap.size, 0, none⟩ rfl (cs64 mo) _ ((HMO2.out.keep hW).at_) Try.underlying56 rfl (by rw [HMOL.out]; exact info56)
      try simp only [Act.put, List.getElem_toArray, List.getElem_cons_succ, List.getElem_cons_zero, List.setIfInBounds_toArray, List.set_cons_zero, List.set_cons_succ]
      -- STEP 2: Op.call { callee := Callee.value (Operand.func 24), args := #[t28, t29], argTypes := #[56, 3] }
      refine reg_step hRo 2 (by kernel_rfl) rfl fun K hK => ?_
      try simp only [Act.put, List.getElem_toArray, List.getElem_cons_succ, List.getElem_cons_zero, List.setIfInBounds_toArray, List.set_cons_zero, List.set_cons_succ]
      go_simp
      refine (HRA.out _).mono ?_; rintro e w5 ⟨rfl, hb5⟩
      refine hK.out _ _ ?_ ?_
      · exact hb5
      have HB5 := Lib.hid hb5
      clear hb5
      clear hK K
      try simp only [Act.put, List.getElem_toArray, List.getElem_cons_succ, List.getElem_cons_zero, List.setIfInBounds_toArray, List.set_cons_zero, List.set_cons_succ]
      -- STEP 4: Op.call { callee := Callee.value (Operand.func 25), args := #[t30, t31], argTypes := #[56, 56] }
      refine reg_step hRo 4 (by kernel_rfl) rfl fun K hK => ?_
      try simp only [Act.put, List.getElem_toArray, List.getElem_cons_succ, List.getElem_cons_zero, List.setIfInBounds_toArray, List.set_cons_zero, List.set_cons_succ]
      go_simp
      refine (HAB.out _).mono ?_; rintro e w6 ⟨rfl, hb6⟩
      refine hK.out _ _ ?_ ?_
      · exact hb6
      have HB6 := Lib.hid (bl_call HB5.out hb6)
      clear hb6 HB5
      clear hK K
      try simp only [Act.put, List.getElem_toArray, List.getElem_cons_succ, List.getElem_cons_zero, List.setIfInBounds_toArray, List.set_cons_zero, List.set_cons_succ]
      refine reg_take (v := ?_) hRo 5 rfl (by kernel_rfl) (by kernel_rfl) (by kernel_rfl) (fun _ _ _ h => h) (by rfl) ?_ ?_
      rotate_left
      · intro W hW; go_simp; try with_reducible rfl
      try simp only [Act.put, List.getElem_toArray, List.getElem_cons_succ, List.getElem_cons_zero, List.setIfInBounds_toArray, List.set_cons_zero, List.set_cons_succ]
      refine reg_done (by kernel_rfl) ?_ _

      have HRT6 := Lib.hid (HRT4.out.drew.keep HB6.out)
      have HMO6 := Lib.hid (HMO2.out.keep HB6.out)
      have HMX6 := Lib.hid (HM2.out.keep HB6.out)
      have HBW6 := Lib.hid (bl_call HB4.out.drew HB6.out)
      clear HB6 HMX HMO4 HRT4 HB4 HM2 HMO2
      rcases hAB : AB with _ | _
      · have HT2 : Hid (rootT mo q (t + 1) = M) := Lib.hid (by rw [HN.out, HTB.out, hAB]; rfl)
        subst hAB
        go_wp2_with (first | (refine wpList_load_at rfl 56 _ rfl ⟨g, 0, none⟩ rfl (cs64 M) _ (HMX6.out.at_) Try.underlying56 rfl (by rw [HML.out]; exact info56) ?_) | (refine wpList_store_bk rfl 56 _ _ rfl (w.heap.size + 1) rfl (cs64 M) (cs64 r) rfl HRT6.out (by rw [HML.out]; exact info56) (by rw [HML.out, HRL.out]) (cs64_one _) ?_))
        go_roundw
        case rel => exact ⟨t + 1, M, by omega, by rw [HTI.out], HT2, Lib.hid (HMO6.out.other (by omega) _), Lib.hid (HRT6.out.setRow _), Lib.hid (bl_setRow HBW6.out (by omega) _)⟩
        case measure => simp [intOf] <;> omega
      · have HT2 : Hid (rootT mo q (t + 1) = r) := Lib.hid (by rw [HN.out, HTB.out, hAB]; rfl)
        subst hAB
        go_wp2
        go_roundw
        case rel => exact ⟨t + 1, r, by omega, by rw [HTI.out], HT2, HMO6, HRT6, HBW6⟩
        case measure => simp [intOf] <;> omega
    · obtain rfl : t = 80 := by omega
      have hc := HRT2.out.cell (k := 0) (cells64_at r 0 (by rw [hrl.out]; omega))
      have hR0 : Hid ((behindT n.toNat q) = r.getD 0 0) := Lib.hid (by rw [HBT.out, HRR.out])
      generalize r.getD 0 0 = res at hc hR0
      go_wp2
      go_ret
      exact ⟨by rw [hR0.out]; rfl, HBW.out⟩
end Go.Proofs.Ytgpgolegedfjfaa
