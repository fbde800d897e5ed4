/- Bytes put into a sum that is under way, which has a part of a piece: put, walked. -/
import Derived.Test.YtjaoaikcmbfnmaaPu2
namespace Go.Proofs.Ytjaoaikcmbfnmaa
set_option maxRecDepth 8192
open Go.RowKit

theorem Run.drew {w : World} {base g gk : Nat} {KA st : List UInt64} {part : List UInt8} {v : Value} (h : Run w base g gk KA st part v) : Run w.drew base g gk KA st part v :=
  ⟨h.bk.drew, World.ownsRow.drew h.row, h.ne, h.hg, h.kb.drew, h.hgk, h.len, h.kl⟩
theorem eat_part (KA st : List UInt64) (X r : List UInt8) (h : X.length = 128) (S : List UInt64) (hS : eat KA ((X ++ r).length / 128) st (X ++ r) = S) : eat KA (r.length / 128) (mix KA st X) r = S := by
  have := eat_next KA st (X ++ r) (by simp; omega) S hS
  rwa [List.take_left' h, List.drop_left' h] at this
theorem left_part (X r : List UInt8) (h : X.length = 128) (S : List UInt8) (hS : left (X ++ r) = S) : left r = S := by
  have := left_next (X ++ r) (by simp; omega) S hS
  rwa [List.drop_left' h] at this

set_option maxHeartbeats 1600000 in
set_option maxRecDepth 8192 in
theorem put_small {A : Option Addr} {n c Pl : Nat} {l part : List UInt8} {KA st : List UInt64} {v : Value} {base g gk : Nat} (w : World) (hR : Run w base g gk KA st part v) (hpl : part.length = Pl) (hp0 : 0 < Pl) (hp : Pl < 128) (hr : Rd w w.heap.size A n c l) (hn : n ≤ 4294967296)
    (hA : ∀ ad, A = some ad → ad.block ≠ g ∧ v.ownBlock ≠ some ad.block) (SF : List UInt64) (PF : List UInt8) (hE : eat KA ((part ++ l).length / 128) st (part ++ l) = SF) (hL : left (part ++ l) = PF) (hs : Pl + n < 128) :
    Calls Try.prog 42 #[.pointer (some ⟨g, 0, none⟩), .slice A n c] w fun e w' => e = .returned (.tuple #[]) ∧ Put w base g gk KA SF PF v w' := by
  have hlen := hr.len
  have hcap := hr.cap
  obtain ⟨Av, cv, rfl, hrv⟩ := hR.row.rdN (n := Pl) hpl
  obtain ⟨adv, rfl, _, _⟩ := hrv.2.2 hp0
  obtain ⟨M, hMd⟩ : ∃ M, M = n := ⟨_, rfl⟩
  have hM : min (128 - (Pl : Int)) (n : Int) = (M : Int) := by omega
  have hMn : M ≤ n := by omega
  have hMc : M ≤ c := by omega
  have hs2 : Pl + M < 128 := by omega
  have HMd := Lib.hid hMd
  have hc9 := hR.bk.cell (k := 9) (rn_nine _ _ _ hR.len)
  have HC9 : Hid (w.drew.cell? ⟨g, 9, none⟩ = some (.slice (some adv) Pl cv)) := Lib.hid hc9
  have HR := Lib.hid hR.drew
  have HOW : Hid (Ow w.drew base (.slice (some adv) Pl cv) part) := Lib.hid hR.drew.row
  have HRD := Lib.hid (hr.below (Below.refl _ w).drew)
  have HRW := Lib.hid hr
  have HA := Lib.hid hA
  have HEL := Lib.hid hE
  have HLL := Lib.hid hL
  have HB0 : Hid (base ≤ w.drew.heap.size) := Lib.hid (Nat.le_trans hR.hg (Nat.le_of_lt hR.bk.lt))
  clear hR hr hA hE hL hrv
  go_enter Try.func42, Try.ntmps42
  go_wp2_with fail
  have hRk := Kp.stays (may g (.slice (some adv) Pl cv))
  refine reg_start (Kp (may g (.slice (some adv) Pl cv))) follows_mixed ?_
-- region 2 of f26: 12 operations, draws: true
  refine reg_take (v := ?_) hRk 0 rfl (by kernel_rfl) (by kernel_rfl) (by kernel_rfl) (fun _ _ _ h => h) (by rfl) ?_ ?_
  rotate_left
  · intro W hW; go_simp; try with_reducible rfl
  try simp only [Act.put, List.getElem_toArray, List.getElem_cons_succ, List.getElem_cons_zero, List.setIfInBounds_toArray, List.set_cons_zero, List.set_cons_succ]
  refine reg_take (v := ?_) hRk 1 rfl (by kernel_rfl) (by kernel_rfl) (by kernel_rfl) (fun _ _ _ h => h) (by rfl) ?_ ?_
  rotate_left
  · intro W hW; go_simp; try with_reducible rfl
  try simp only [Act.put, List.getElem_toArray, List.getElem_cons_succ, List.getElem_cons_zero, List.setIfInBounds_toArray, List.set_cons_zero, List.set_cons_succ]
  refine reg_take (v := ?_) hRk 2 rfl (by kernel_rfl) (by kernel_rfl) (by kernel_rfl) (fun _ _ _ h => h) (by rfl) ?_ ?_
  rotate_left
  · intro W hW; go_simp; try with_reducible rfl
  try simp only [Act.put, List.getElem_toArray, List.getElem_cons_succ, List.getElem_cons_zero, List.setIfInBounds_toArray, List.set_cons_zero, List.set_cons_succ]
  refine reg_take (v := .pointer (some ⟨g, 9, none⟩)) hRk 3 rfl (by kernel_rfl) (by kernel_rfl) (by kernel_rfl) (fun _ _ _ h => h) (by rfl) ?_ ?_
  · intro W hW; go_simp
  try simp only [Act.put, List.getElem_toArray, List.getElem_cons_succ, List.getElem_cons_zero, List.setIfInBounds_toArray, List.set_cons_zero, List.set_cons_succ]
  refine reg_take (v := ?_) hRk 5 rfl (by kernel_rfl) (by kernel_rfl) (by kernel_rfl) (fun _ _ _ h => h) (by rfl) ?_ ?_
  rotate_left
  · intro W hW; go_simp; try with_reducible rfl
  try simp only [Act.put, List.getElem_toArray, List.getElem_cons_succ, List.getElem_cons_zero, List.setIfInBounds_toArray, List.set_cons_zero, List.set_cons_succ]
  refine reg_take (v := ?_) hRk 6 rfl (by kernel_rfl) (by kernel_rfl) (by kernel_rfl) (fun _ _ _ h => h) (by rfl) ?_ ?_
  rotate_left
  · intro W hW; go_simp; try with_reducible rfl
  try simp only [Act.put, List.getElem_toArray, List.getElem_cons_succ, List.getElem_cons_zero, List.setIfInBounds_toArray, List.set_cons_zero, List.set_cons_succ]
  refine reg_take (v := .slice A M c) hRk 7 rfl (by kernel_rfl) (by kernel_rfl) (by kernel_rfl) (fun _ _ _ h => h) (by rfl) ?_ ?_
  · intro W hW; exact exec_slice31_hi _ _ rfl rfl rfl hMc (by omega)
  try simp only [Act.put, List.getElem_toArray, List.getElem_cons_succ, List.getElem_cons_zero, List.setIfInBounds_toArray, List.set_cons_zero, List.set_cons_succ]
  -- STEP 4: Op.load 26 (t23)
  refine reg_step hRk 4 (by kernel_rfl) rfl fun K hK => ?_
  try simp only [Act.put, List.getElem_toArray, List.getElem_cons_succ, List.getElem_cons_zero, List.setIfInBounds_toArray, List.set_cons_zero, List.set_cons_succ]
  rw [if_pos (by rfl)]
  refine wp_load_cell 26 _ rfl Try.isAgg26 rfl HC9.out ?_
  refine hK.out _ _ ?_ ?_
  · exact (Kp.stays _).refl _
  clear hK K
  try simp only [Act.put, List.getElem_toArray, List.getElem_cons_succ, List.getElem_cons_zero, List.setIfInBounds_toArray, List.set_cons_zero, List.set_cons_succ]
  -- STEP 8: Op.call { callee := Callee.builtin Builtin.append, args := #[t24, t27], argTypes := #[26, 26] }
  refine reg_step hRk 8 (by kernel_rfl) rfl fun K hK => ?_
  try simp only [Act.put, List.getElem_toArray, List.getElem_cons_succ, List.getElem_cons_zero, List.setIfInBounds_toArray, List.set_cons_zero, List.set_cons_succ]
  rw [if_pos (by rfl)]
  refine wp_app2 (.tmp 24) (.tmp 27) rfl rfl HOW.out rfl (HRD.out.take_ hMn) (by omega) HB0.out ?_
  intro v2 w2 ho2 hg2 hv2
  obtain ⟨A2, c2, rfl, hr2⟩ := ho2.rdN (n := Pl + M) (by simp [hpl, hlen]; omega)
  obtain ⟨ad2, rfl, _, _⟩ := hr2.2.2 (by omega)
  refine hK.out _ _ ?_ ?_
  · exact Kp.of_grown hg2
  have HO2 := Lib.hid ho2
  have HG2 : Hid (w.drew.grownBy w2 (Value.slice (some adv) Pl cv).ownBlock) := Lib.hid hg2
  have HV2 : Hid ((Value.slice (some ad2) (Pl + M) c2).ownBlock = (Value.slice (some adv) Pl cv).ownBlock ∨ (Value.slice (some ad2) (Pl + M) c2).ownBlock = some w.drew.heap.size) := Lib.hid hv2
  clear ho2 hg2 hv2
  clear hK K
  try simp only [Act.put, List.getElem_toArray, List.getElem_cons_succ, List.getElem_cons_zero, List.setIfInBounds_toArray, List.set_cons_zero, List.set_cons_succ]
  refine reg_take (v := ?_) hRk 9 rfl (by kernel_rfl) (by kernel_rfl) (by kernel_rfl) (fun _ _ _ h => h) (by rfl) ?_ ?_
  rotate_left
  · intro W hW; go_simp; try with_reducible rfl
  try simp only [Act.put, List.getElem_toArray, List.getElem_cons_succ, List.getElem_cons_zero, List.setIfInBounds_toArray, List.set_cons_zero, List.set_cons_succ]
  refine reg_take (v := .pointer (some ⟨g, 9, none⟩)) hRk 10 rfl (by kernel_rfl) (by kernel_rfl) (by kernel_rfl) (fun _ _ _ h => h) (by rfl) ?_ ?_
  · intro W hW; go_simp
  try simp only [Act.put, List.getElem_toArray, List.getElem_cons_succ, List.getElem_cons_zero, List.setIfInBounds_toArray, List.set_cons_zero, List.set_cons_succ]
  -- STEP 11: Op.store 26 (t30) (t28)
  refine reg_step hRk 11 (by kernel_rfl) rfl fun K hK => ?_
  try simp only [Act.put, List.getElem_toArray, List.getElem_cons_succ, List.getElem_cons_zero, List.setIfInBounds_toArray, List.set_cons_zero, List.set_cons_succ]
  rw [if_pos (by rfl)]
  refine wp_store_any _ _ rfl rfl rfl (HR.out.bk.grown HG2.out HR.out.ne) (by rw [rn_length _ _ _ HR.out.len]; omega) ?_
  refine hK.out _ _ ?_ ?_
  · exact Kp.of_cell _ _
  clear hK K
  try simp only [Act.put, List.getElem_toArray, List.getElem_cons_succ, List.getElem_cons_zero, List.setIfInBounds_toArray, List.set_cons_zero, List.set_cons_succ]
  refine reg_done (by kernel_rfl) ?_ _

  have HR3 := Lib.hid (HR.out.stored HG2.out HO2.out HV2.out)
  have HK3 : Hid (Kp (may g (.slice (some adv) Pl cv)) w (w2.setCell ⟨g, 9, none⟩ (.slice (some ad2) (Pl + M) c2))) := Lib.hid ((Kp.stays _).trans (Kp.of_old (Below.refl _ w).drew) ((Kp.stays _).trans (Kp.of_grown (g := g) HG2.out) (Kp.of_cell 9 _)))
  have hc93 := HR3.out.bk.cell (k := 9) (rn_nine _ _ _ HR3.out.len)
  have HF3 : Hid (Fresh w (.slice (some adv) Pl cv) (.slice (some ad2) (Pl + M) c2)) := Lib.hid (HV2.out.imp id (fun e => ⟨_, e, Nat.le_refl _⟩))
  clear HG2 HO2 HV2
  generalize w2.setCell ⟨g, 9, none⟩ (.slice (some ad2) (Pl + M) c2) = w3 at HR3 HK3 hc93 ⊢
  have hX : part ++ l.take M = part ++ l := by rw [HMd.out, List.take_of_length_le (by omega)]
  go_wp2
  all_goals
    refine bodyPost_ret (results_none rfl _ _ _) rfl ⟨rfl, _, ?_, HK3.out, HF3.out⟩
    rw [← HEL.out, ← HLL.out, left, Nat.div_eq_of_lt (by simp; omega), eat, Nat.mul_zero, List.drop_zero, ← hX]
    exact HR3.out

set_option maxHeartbeats 1600000 in
set_option maxRecDepth 8192 in
theorem put_big {A : Option Addr} {n c Pl : Nat} {l part : List UInt8} {KA st : List UInt64} {v : Value} {base g gk : Nat} (w : World) (hR : Run w base g gk KA st part v) (hpl : part.length = Pl) (hp0 : 0 < Pl) (hp : Pl < 128) (hr : Rd w w.heap.size A n c l) (hn : n ≤ 4294967296)
    (hA : ∀ ad, A = some ad → ad.block ≠ g ∧ v.ownBlock ≠ some ad.block) (SF : List UInt64) (PF : List UInt8) (hE : eat KA ((part ++ l).length / 128) st (part ++ l) = SF) (hL : left (part ++ l) = PF) (hs : 128 ≤ Pl + n) :
    Calls Try.prog 42 #[.pointer (some ⟨g, 0, none⟩), .slice A n c] w fun e w' => e = .returned (.tuple #[]) ∧ Put w base g gk KA SF PF v w' := by
  have hlen := hr.len
  have hcap := hr.cap
  obtain ⟨Av, cv, rfl, hrv⟩ := hR.row.rdN (n := Pl) hpl
  obtain ⟨adv, rfl, _, _⟩ := hrv.2.2 hp0
  obtain ⟨M, hMd⟩ : ∃ M, M = 128 - Pl := ⟨_, rfl⟩
  have hM : min (128 - (Pl : Int)) (n : Int) = (M : Int) := by omega
  have hMn : M ≤ n := by omega
  have hMc : M ≤ c := by omega
  have hs2 : (128 : Int) - (Pl : Int) ≤ (c : Int) := by omega
  have hs3 : (128 : Int) - (Pl : Int) ≤ (n : Int) := by omega
  subst hMd
  have hc9 := hR.bk.cell (k := 9) (rn_nine _ _ _ hR.len)
  have HC9 : Hid (w.drew.cell? ⟨g, 9, none⟩ = some (.slice (some adv) Pl cv)) := Lib.hid hc9
  have HR := Lib.hid hR.drew
  have HOW : Hid (Ow w.drew base (.slice (some adv) Pl cv) part) := Lib.hid hR.drew.row
  have HRD := Lib.hid (hr.below (Below.refl _ w).drew)
  have HRW := Lib.hid hr
  have HA := Lib.hid hA
  have HEL := Lib.hid hE
  have HLL := Lib.hid hL
  have HB0 : Hid (base ≤ w.drew.heap.size) := Lib.hid (Nat.le_trans hR.hg (Nat.le_of_lt hR.bk.lt))
  clear hR hr hA hE hL hrv
  go_enter Try.func42, Try.ntmps42
  go_wp2_with fail
  have hRk := Kp.stays (may g (.slice (some adv) Pl cv))
  refine reg_start (Kp (may g (.slice (some adv) Pl cv))) follows_mixed ?_
-- region 2 of f26: 12 operations, draws: true
  refine reg_take (v := ?_) hRk 0 rfl (by kernel_rfl) (by kernel_rfl) (by kernel_rfl) (fun _ _ _ h => h) (by rfl) ?_ ?_
  rotate_left
  · intro W hW; go_simp; try with_reducible rfl
  try simp only [Act.put, List.getElem_toArray, List.getElem_cons_succ, List.getElem_cons_zero, List.setIfInBounds_toArray, List.set_cons_zero, List.set_cons_succ]
  refine reg_take (v := ?_) hRk 1 rfl (by kernel_rfl) (by kernel_rfl) (by kernel_rfl) (fun _ _ _ h => h) (by rfl) ?_ ?_
  rotate_left
  · intro W hW; go_simp; try with_reducible rfl
  try simp only [Act.put, List.getElem_toArray, List.getElem_cons_succ, List.getElem_cons_zero, List.setIfInBounds_toArray, List.set_cons_zero, List.set_cons_succ]
  refine reg_take (v := ?_) hRk 2 rfl (by kernel_rfl) (by kernel_rfl) (by kernel_rfl) (fun _ _ _ h => h) (by rfl) ?_ ?_
  rotate_left
  · intro W hW; go_simp; try with_reducible rfl
  try simp only [Act.put, List.getElem_toArray, List.getElem_cons_succ, List.getElem_cons_zero, List.setIfInBounds_toArray, List.set_cons_zero, List.set_cons_succ]
  refine reg_take (v := .pointer (some ⟨g, 9, none⟩)) hRk 3 rfl (by kernel_rfl) (by kernel_rfl) (by kernel_rfl) (fun _ _ _ h => h) (by rfl) ?_ ?_
  · intro W hW; go_simp
  try simp only [Act.put, List.getElem_toArray, List.getElem_cons_succ, List.getElem_cons_zero, List.setIfInBounds_toArray, List.set_cons_zero, List.set_cons_succ]
  refine reg_take (v := ?_) hRk 5 rfl (by kernel_rfl) (by kernel_rfl) (by kernel_rfl) (fun _ _ _ h => h) (by rfl) ?_ ?_
  rotate_left
  · intro W hW; go_simp; try with_reducible rfl
  try simp only [Act.put, List.getElem_toArray, List.getElem_cons_succ, List.getElem_cons_zero, List.setIfInBounds_toArray, List.set_cons_zero, List.set_cons_succ]
  refine reg_take (v := ?_) hRk 6 rfl (by kernel_rfl) (by kernel_rfl) (by kernel_rfl) (fun _ _ _ h => h) (by rfl) ?_ ?_
  rotate_left
  · intro W hW; go_simp; try with_reducible rfl
  try simp only [Act.put, List.getElem_toArray, List.getElem_cons_succ, List.getElem_cons_zero, List.setIfInBounds_toArray, List.set_cons_zero, List.set_cons_succ]
  refine reg_take (v := .slice A (128 - Pl) c) hRk 7 rfl (by kernel_rfl) (by kernel_rfl) (by kernel_rfl) (fun _ _ _ h => h) (by rfl) ?_ ?_
  · intro W hW; exact exec_slice31_hi _ _ rfl rfl rfl hMc (by omega)
  try simp only [Act.put, List.getElem_toArray, List.getElem_cons_succ, List.getElem_cons_zero, List.setIfInBounds_toArray, List.set_cons_zero, List.set_cons_succ]
  -- STEP 4: Op.load 26 (t23)
  refine reg_step hRk 4 (by kernel_rfl) rfl fun K hK => ?_
  try simp only [Act.put, List.getElem_toArray, List.getElem_cons_succ, List.getElem_cons_zero, List.setIfInBounds_toArray, List.set_cons_zero, List.set_cons_succ]
  rw [if_pos (by rfl)]
  refine wp_load_cell 26 _ rfl Try.isAgg26 rfl HC9.out ?_
  refine hK.out _ _ ?_ ?_
  · exact (Kp.stays _).refl _
  clear hK K
  try simp only [Act.put, List.getElem_toArray, List.getElem_cons_succ, List.getElem_cons_zero, List.setIfInBounds_toArray, List.set_cons_zero, List.set_cons_succ]
  -- STEP 8: Op.call { callee := Callee.builtin Builtin.append, args := #[t24, t27], argTypes := #[26, 26] }
  refine reg_step hRk 8 (by kernel_rfl) rfl fun K hK => ?_
  try simp only [Act.put, List.getElem_toArray, List.getElem_cons_succ, List.getElem_cons_zero, List.setIfInBounds_toArray, List.set_cons_zero, List.set_cons_succ]
  rw [if_pos (by rfl)]
  refine wp_app2 (.tmp 24) (.tmp 27) rfl rfl HOW.out rfl (HRD.out.take_ hMn) (by omega) HB0.out ?_
  intro v2 w2 ho2 hg2 hv2
  obtain ⟨A2, c2, rfl, hr2⟩ := ho2.rdN (n := 128) (by simp [hpl, hlen]; omega)
  obtain ⟨ad2, rfl, _, _⟩ := hr2.2.2 (by omega)
  refine hK.out _ _ ?_ ?_
  · exact Kp.of_grown hg2
  have HO2 := Lib.hid ho2
  have HG2 : Hid (w.drew.grownBy w2 (Value.slice (some adv) Pl cv).ownBlock) := Lib.hid hg2
  have HV2 : Hid ((Value.slice (some ad2) (128) c2).ownBlock = (Value.slice (some adv) Pl cv).ownBlock ∨ (Value.slice (some ad2) (128) c2).ownBlock = some w.drew.heap.size) := Lib.hid hv2
  clear ho2 hg2 hv2
  clear hK K
  try simp only [Act.put, List.getElem_toArray, List.getElem_cons_succ, List.getElem_cons_zero, List.setIfInBounds_toArray, List.set_cons_zero, List.set_cons_succ]
  refine reg_take (v := ?_) hRk 9 rfl (by kernel_rfl) (by kernel_rfl) (by kernel_rfl) (fun _ _ _ h => h) (by rfl) ?_ ?_
  rotate_left
  · intro W hW; go_simp; try with_reducible rfl
  try simp only [Act.put, List.getElem_toArray, List.getElem_cons_succ, List.getElem_cons_zero, List.setIfInBounds_toArray, List.set_cons_zero, List.set_cons_succ]
  refine reg_take (v := .pointer (some ⟨g, 9, none⟩)) hRk 10 rfl (by kernel_rfl) (by kernel_rfl) (by kernel_rfl) (fun _ _ _ h => h) (by rfl) ?_ ?_
  · intro W hW; go_simp
  try simp only [Act.put, List.getElem_toArray, List.getElem_cons_succ, List.getElem_cons_zero, List.setIfInBounds_toArray, List.set_cons_zero, List.set_cons_succ]
  -- STEP 11: Op.store 26 (t30) (t28)
  refine reg_step hRk 11 (by kernel_rfl) rfl fun K hK => ?_
  try simp only [Act.put, List.getElem_toArray, List.getElem_cons_succ, List.getElem_cons_zero, List.setIfInBounds_toArray, List.set_cons_zero, List.set_cons_succ]
  rw [if_pos (by rfl)]
  refine wp_store_any _ _ rfl rfl rfl (HR.out.bk.grown HG2.out HR.out.ne) (by rw [rn_length _ _ _ HR.out.len]; omega) ?_
  refine hK.out _ _ ?_ ?_
  · exact Kp.of_cell _ _
  clear hK K
  try simp only [Act.put, List.getElem_toArray, List.getElem_cons_succ, List.getElem_cons_zero, List.setIfInBounds_toArray, List.set_cons_zero, List.set_cons_succ]
  refine reg_done (by kernel_rfl) ?_ _

  have HR3 := Lib.hid (HR.out.stored HG2.out HO2.out HV2.out)
  have HK3 : Hid (Kp (may g (.slice (some adv) Pl cv)) w (w2.setCell ⟨g, 9, none⟩ (.slice (some ad2) (128) c2))) := Lib.hid ((Kp.stays _).trans (Kp.of_old (Below.refl _ w).drew) ((Kp.stays _).trans (Kp.of_grown (g := g) HG2.out) (Kp.of_cell 9 _)))
  have hc93 := HR3.out.bk.cell (k := 9) (rn_nine _ _ _ HR3.out.len)
  have HF3 : Hid (Fresh w (.slice (some adv) Pl cv) (.slice (some ad2) (128) c2)) := Lib.hid (HV2.out.imp id (fun e => ⟨_, e, Nat.le_refl _⟩))
  clear HG2 HO2 HV2
  generalize w2.setCell ⟨g, 9, none⟩ (.slice (some ad2) (128) c2) = w3 at HR3 HK3 hc93 ⊢
  have hX : (part ++ l.take (128 - Pl)).length = 128 := by rw [List.length_append, List.length_take, hpl]; omega
  have hsplit : part ++ l = (part ++ l.take (128 - Pl)) ++ l.drop (128 - Pl) := by rw [List.append_assoc, List.take_append_drop]
  have HE := Lib.hid (eat_part KA st (part ++ l.take (128 - Pl)) (l.drop (128 - Pl)) hX SF (by rw [← hsplit]; exact HEL.out))
  have HLft := Lib.hid (left_part (part ++ l.take (128 - Pl)) (l.drop (128 - Pl)) hX PF (by rw [← hsplit]; exact HLL.out))
  obtain ⟨A9, c9, e9, hr9⟩ := HR3.out.row.rdN hX
  injection e9 with e91 e92 e93
  subst e91 e93
  have HR9 := Lib.hid hr9
  have HN9 : Hid (ad2.block ≠ g) := Lib.hid (fun e => HR3.out.ne (by rw [← e]; rfl))
  clear hr9 HEL HLL hsplit
  go_wp2_with fail
  all_goals
    refine (step_any w3 HR3.out HR9.out (Nat.le_refl _) (fun ad h => by injection h with h; subst h; exact HN9.out)).mono ?_; rintro e w4 ⟨rfl, hR4, hK4⟩
    rw [List.take_of_length_le (Nat.le_of_eq hX)] at hR4
    have hc94 := hR4.bk.cell (k := 9) (rn_nine _ _ _ hR4.len)
    have hf94 := hR4.bk.frozen 9
    have HRun := Lib.hid (hR4.stored (World.grownBy.refl w4 _) (Ow.cut hR4.row) (Or.inl rfl))
    have HKP := Lib.hid ((HK3.out.via hK4 (fun k _ h => Or.inl h)).via (Kp.of_cell (g := g) (v := .slice (some ad2) 128 c2) 9 (.slice (some ad2) 0 c2)) (may_via HF3.out))
    have HOB : Hid (Fresh w (.slice (some adv) Pl cv) (.slice (some ad2) 0 c2)) := Lib.hid HF3.out
    have HNE0 : Hid (∀ ad, A = some ad → ad.block ≠ g) := Lib.hid (fun ad h => (HA.out ad h).1)
    have HRd0 : Hid (Rd (w4.setCell ⟨g, 9, none⟩ (.slice (some ad2) 0 c2)) w.heap.size A n c l) := Lib.hid (HRW.out.kpNe HKP.out (Nat.le_refl _) (fun ad h => by
      rintro (e | e)
      · exact (HA.out ad h).1 e
      · exact (HA.out ad h).2 e))
    have HRd := Lib.hid (HRd0.out.drop_ hMn)
    have HNE := Lib.hid (ne_drop (c := c) (k := (128 - Pl)) HNE0.out)
    first
    | (have hcM : c = (128 - Pl) := by assumption
       rw [if_pos hcM, hcM, Nat.sub_self] at HRd
       rw [if_pos hcM] at HNE)
    | (have hcM : ¬ c = (128 - Pl) := by assumption
       rw [if_neg hcM] at HRd HNE)
    clear hR4 hK4 HR3 HR9 HN9 HK3 hc93 HNE0 HRd0 HRW HRD HR HOW HC9 HB0 hc9 HA HF3
    obtain ⟨nr, hnr⟩ : ∃ nr, nr = n - (128 - Pl) := ⟨_, rfl⟩
    have hnr3 : nr ≤ 4294967296 := by omega
    generalize part ++ l.take (128 - Pl) = X at hX HRun HE HLft
    generalize mix KA st X = st2 at HRun HE
    go_wp2_with fail
    generalize w4.setCell ⟨g, 9, none⟩ (.slice (some ad2) 0 c2) = w5 at HRun HKP HRd ⊢

    have HOW := Lib.hid HRun.out.row
    go_loopw [1] (fun v1 wr => ∃ (A' : Option Addr) (n' c' : Nat) (l' : List UInt8) (st' : List UInt64), v1 = .slice A' n' c' ∧ n' ≤ nr ∧ Hid (Run wr base g gk KA st' [] (.slice (some ad2) 0 c2)) ∧ Hid (Rd wr w.heap.size A' n' c' l') ∧ Hid (∀ ad, A' = some ad → ad.block ≠ g) ∧ Hid (Kp (may g (.slice (some adv) Pl cv)) w wr) ∧ Hid (eat KA (l'.length / 128) st' l' = SF) ∧ Hid (left l' = PF)) (fun v1 _ => lenOf v1)
    case atStart => exact ⟨_, _, _, _, _, rfl, Nat.le_of_eq hnr.symm, HRun, HRd, HNE, HKP, HE, HLft⟩
    case round =>
      clear HRun HRd HNE HKP HE HLft
      obtain ⟨A', n', c', l', st', rfl, hnr', HRun, HRd, HNE, HKP, HE, HLft⟩ := hrel
      have hlen := HRd.out.len
      have hcap := HRd.out.cap
      by_cases hbig : 128 ≤ n'
      · try (exfalso; omega)
        all_goals
          go_wp2_with fail
          refine (step_any wr HRun.out ((HRd.out.take_ (k := 128) hbig).more HKP.out.size) (Nat.le_refl _) (fun ad h => HNE.out ad h)).mono ?_; rintro e w6 ⟨rfl, hR6, hK6⟩
          have HR6 := Lib.hid hR6
          have HK6 := Lib.hid hK6
          have HRd6 := Lib.hid ((HRd.out.kpNe hK6 HKP.out.size (fun ad h => HNE.out ad h)).drop_ hbig)
          have hE6 := Lib.hid (eat_next KA st' l' (by omega) SF HE.out)
          have hL6 := Lib.hid (left_next l' (by omega) PF HLft.out)
          rw [List.take_take, Nat.min_self] at HR6
          clear hR6 hK6
          go_wp2
          go_roundw
          case rel => exact ⟨_, n' - 128, c' - 128, l'.drop 128, _, rfl, by omega, HR6, HRd6, Lib.hid (ne_drop HNE.out), Lib.hid (HKP.out.via HK6.out (fun k _ h => Or.inl h)), hE6, hL6⟩
          case measure => simp [lenOf]; omega
      · have hE0 := eat_small KA st' l' (by omega) SF HE.out
        have hL0 := left_small l' (by omega) PF HLft.out
        have HR6 := Lib.hid HRun.out
        have hc9 := HRun.out.bk.cell (k := 9) (rn_nine _ _ _ HRun.out.len)
        have hB6 : base ≤ wr.heap.size := Nat.le_trans HRun.out.hg (Nat.le_of_lt HRun.out.bk.lt)
        go_wp2_with (at_builtin; refine wpList_app rfl _ _ rfl rfl HR6.out.row rfl (HRd.out.more HKP.out.size) (by simp; omega) hB6 ?_; intro v7 w7 ho7 hg7 hv7; obtain ⟨A7, c7, rfl, _⟩ := ho7.rdN (n := n') (by simpa using hlen); have HO7 := Lib.hid ho7; have HG7 := Lib.hid hg7; have HV7 := Lib.hid hv7; clear ho7 hg7 hv7; have hc97 := (HR6.out.bk.grown HG7.out HR6.out.ne).cell (k := 9) (rn_nine _ _ _ HR6.out.len); have hf97 := (HR6.out.bk.grown HG7.out HR6.out.ne).frozen 9)
        refine bodyPost_end (results_none rfl _ _ _) rfl ⟨rfl, .slice A7 n' c7, ?_, ?_, ?_⟩
        · rw [hE0, hL0]
          exact HR6.out.stored HG7.out (by simpa using HO7.out) HV7.out
        · exact HKP.out.via ((Kp.stays _).trans (Kp.of_grown (g := g) HG7.out) (Kp.of_cell 9 _)) (may_via HOB.out)
        · rcases HV7.out with e | e
          · rcases HOB.out with k | ⟨j, k, hj⟩
            · exact Or.inl (e.trans k)
            · exact Or.inr ⟨j, e.trans k, hj⟩
          · exact Or.inr ⟨_, e, HKP.out.size⟩
    

end Go.Proofs.Ytjaoaikcmbfnmaa
