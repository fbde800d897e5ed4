/- Texts of this claim, one behind the other: Stp, Put, Pu2. -/
import Derived.Test.YtdfihpnmiiaflaaDoorZ03
set_option linter.unusedSimpArgs false
set_option linter.unusedVariables false
section
/- A sum that is under way: its block, its row, a step. -/
namespace Go.Proofs.YtdfihpnmiiaflaaDoor
set_option maxRecDepth 8192
open Go.RowKit

/-- The cells of a sum under way. -/
def rn (gk : Nat) (st : List UInt64) (v : Value) : List Value := Value.pointer (some ⟨gk, 0, none⟩) :: (cs64 st ++ [v])
structure Run (w : World) (base g gk : Nat) (KA st : List UInt64) (part : List UInt8) (v : Value) : Prop where
  bk : Bk w g (rn gk st v)
  row : Ow w base v part
  ne : v.ownBlock ≠ some g
  hg : base ≤ g
  kb : Bk w gk (cs64 KA)
  hgk : gk < base
  len : st.length = 8
  kl : 80 ≤ KA.length

def sets (cs : List Value) : Nat → List Value → List Value
  | _, [] => cs
  | o, v :: r => sets (cs.set o v) (o + 1) r
theorem Bk.setCells {g : Nat} : ∀ (vs : List Value) {w : World} {cs : List Value} (o : Nat), Bk w g cs → Bk (w.setCells g o vs) g (sets cs o vs)
  | [], _, _, _, h => h
  | v :: r, _, _, o, h => Bk.setCells r (o + 1) (h.setCell o v)
theorem rn_sets (gk : Nat) (st st' : List UInt64) (v : Value) (h : st.length = 8) (h' : st'.length = 8) : sets (rn gk st v) 1 (cs64 st') = rn gk st' v := by
  obtain ⟨a, b, c, d, e, f, g, i, rfl⟩ := eight h
  obtain ⟨a', b', c', d', e', f', g', i', rfl⟩ := eight h'
  rfl
theorem setCells_kept (g : Nat) : ∀ (vs : List Value) (o : Nat) (w : World), (w.setCells g o vs).os = w.os ∧ (w.setCells g o vs).tape = w.tape ∧ (w.setCells g o vs).output = w.output ∧ (w.setCells g o vs).heap.size = w.heap.size ∧ ∀ k, k ≠ g → (w.setCells g o vs).heap[k]? = w.heap[k]?
  | [], _, _ => ⟨rfl, rfl, rfl, rfl, fun _ _ => rfl⟩
  | v :: r, o, w => by
    obtain ⟨h1, h2, h3, h4, h5⟩ := setCells_kept g r (o + 1) (w.setCell ⟨g, o, none⟩ v)
    rw [World.setCells]
    exact ⟨h1, h2, h3, h4.trans (by simp [World.setCell]), fun k hk => (h5 k hk).trans (heap_setCell_other w _ k v hk)⟩

/-- What stays while a sum's words are written: all other blocks, and its first cell. -/
def Kf (g : Nat) (w w' : World) : Prop := Kp (· = g) w w' ∧ (g < w.heap.size → w'.cell? ⟨g, 0, none⟩ = w.cell? ⟨g, 0, none⟩)
theorem Kf.stays {g : Nat} : Stays (Kf g) :=
  ⟨fun w => ⟨(Kp.stays _).refl w, fun _ => rfl⟩, fun h k => ⟨(Kp.stays _).trans h.1 k.1, fun hg => (k.2 (Nat.lt_of_lt_of_le hg h.1.size)).trans (h.2 hg)⟩⟩
theorem Kf.of_old {g : Nat} {w w' : World} (h : Below w.heap.size w w') : Kf g w w' := ⟨Kp.of_old h, fun hg => h.cell hg⟩
theorem Kf.of_set {g n : Nat} {w : World} {vs : List Value} (_ : w.there g 1 n) (_ : vs.length ≤ 8) : Kf g w (w.setCells g 1 vs) := by
  obtain ⟨h1, h2, h3, h4, h5⟩ := setCells_kept g vs 1 w
  exact ⟨⟨h1, h2, h3, Nat.le_of_eq h4.symm, fun k _ hk => h5 k hk⟩, fun _ => World.cell?_setCells_out g vs 1 w _ (fun _ _ => Or.inl Nat.zero_lt_one)⟩
theorem Bk.there {w : World} {g o n : Nat} {cs : List Value} (h : Bk w g cs) (hn : o + n ≤ cs.length) : w.there g o n := fun j hj =>
  ⟨by rw [h.cell (List.getElem?_eq_getElem (by omega : o + j < cs.length))]; rfl, h.frozen _⟩
theorem Bk.range {w : World} {g o : Nat} {cs vs : List Value} (h : Bk w g cs) (hv : ∀ j v, vs[j]? = some v → cs[o + j]? = some v) : ∀ j v, vs[j]? = some v → w.cell? ((⟨g, o, none⟩ : Addr).add j) = some v := by
  intro j v hj
  rw [Addr.add_mid]
  exact h.cell (hv j v hj)
theorem mix_length (KA st : List UInt64) (p : List UInt8) (h : st.length = 8) : (mix KA st p).length = 8 := by
  simp [mix, S8.list, h]
theorem rn_length (gk : Nat) (st : List UInt64) (v : Value) (h : st.length = 8) : (rn gk st v).length = 10 := by simp [rn, cs64_length, h]
theorem rn_words (gk : Nat) (st : List UInt64) (v : Value) : ∀ (j : Nat) (u : Value), (cs64 st)[j]? = some u → (rn gk st v)[1 + j]? = some u := by
  intro j u hj
  rw [rn, Nat.add_comm, List.getElem?_cons_succ, List.getElem?_append_left (List.getElem?_eq_some_iff.1 hj).1]
  exact hj

set_option maxHeartbeats 800000 in
theorem step_any {A : Option Addr} {n c : Nat} {l part : List UInt8} {KA st : List UInt64} {v : Value} {base g gk : Nat} (w : World) (hR : Run w base g gk KA st part v) (hr : Rd w w.heap.size A n c l) (hn : 128 ≤ n) (hne : ∀ ad, A = some ad → ad.block ≠ g) :
    Calls Tryd.prog 75 #[.pointer (some ⟨g, 0, none⟩), .slice A n c] w fun e w' => e = .returned (.tuple #[]) ∧ Run w' base g gk KA (mix KA st (l.take 128)) part v ∧ Kp (· = g) w w' := by
  obtain ⟨ad, rfl, hab, hcl⟩ := hr.2.2 (by omega)
  have hadg := hne ad rfl
  have hl2 : (l.take 128).length = 128 := by rw [List.length_take, hr.len]; omega
  have HL2 := Lib.hid (show (cs8 (l.take 128)).length = 128 by rw [cs8_length, hl2])
  have HL : Hid (∀ W, Kp (· = g) w.drew W → ∀ j u, (cs8 (l.take 128))[j]? = some u → W.cell? (ad.add j) = some u) := Lib.hid (by
    intro W hW j u hu
    have hrt := (hr.take_ (k := 128) hn)
    have := hrt.cells (by omega) j u hu
    rw [← this]
    exact hW.cell (w := w.drew) (by rw [add_block]; exact hab) (by rw [add_block]; exact hadg))
  have HR := Lib.hid hR
  have HG : Hid (g < w.drew.heap.size) := Lib.hid hR.bk.lt
  have HC0 : Hid (w.drew.cell? ⟨g, 0, none⟩ = some (.pointer (some ⟨gk, 0, none⟩))) := Lib.hid (hR.bk.cell rfl)
  have HS : Hid (∀ j u, (cs64 st)[j]? = some u → w.drew.cell? ((⟨g, 1, none⟩ : Addr).add j) = some u) := Lib.hid (hR.bk.drew.range (rn_words gk st v))
  have HSL := Lib.hid (show (cs64 st).length = 8 by rw [cs64_length, hR.len])
  have hml := mix_length KA st (l.take 128) hR.len
  have HT : Hid (∀ W, Below w.drew.heap.size w.drew W → W.there g 1 (cs64 (mix KA st (l.take 128))).toArray.size) := Lib.hid (fun W hW =>
    (hR.bk.drew.keep hW).there (by rw [rn_length gk st v hR.len]; simp [cs64_length, hml]))
  have HS2 := Lib.hid (show (Tryd.prog.info? 87).map (·.size) = some (cs64 (mix KA st (l.take 128))).length by rw [cs64_length, hml]; exact info38)
  have HF : Hid (∀ W, Below w.drew.heap.size w.drew W → Run (W.setCells g 1 (cs64 (mix KA st (l.take 128)))) base g gk KA (mix KA st (l.take 128)) part v) := Lib.hid (fun W hW => by
    have hK := setCells_kept g (cs64 (mix KA st (l.take 128))) 1 W
    have hbk := (hR.bk.drew.keep hW).setCells (cs64 (mix KA st (l.take 128))) 1
    rw [rn_sets gk st _ v hR.len hml] at hbk
    refine ⟨hbk, ?_, hR.ne, hR.hg, ?_, hR.hgk, hml, hR.kl⟩
    · have h1 : Ow W base v part := Ow.below (w := w.drew) (World.ownsRow.drew hR.row) hW
      exact World.ownsRow.kept h1 ⟨hK.1, hK.2.1, hK.2.2.1, Nat.le_of_eq hK.2.2.2.1.symm, fun k _ hk => hK.2.2.2.2 k (fun e => hk (by rw [e]))⟩ (Or.inr hR.ne)
    · obtain ⟨t, hk⟩ := hR.kb.drew.keep hW
      exact ⟨t, (hK.2.2.2.2 gk (by have := hR.hgk; have := hR.hg; omega)).trans hk⟩)
  have hm := mixed_any KA st (l.take 128) gk w.drew hR.len hl2 hR.kl hR.kb.drew
  clear hcl hR hr hne
  generalize mix KA st (l.take 128) = S2 at hml HT HS2 HF hm ⊢
  generalize l.take 128 = l2 at hl2 HL2 HL hm
  go_enter Tryd.func75, Tryd.ntmps75
  go_wp2_with fail
  have hR := Kf.stays (g := g)
  refine reg_start (Kf g) follows_mixed ?_
-- region 0 of f32: 16 operations, draws: true
  refine reg_take (v := ?_) hR 0 rfl (by kernel_rfl) (by kernel_rfl) (by kernel_rfl) (fun _ _ _ h => h) (by rfl) ?_ ?_
  rotate_left
  · intro W hW; go_simp; try with_reducible rfl
  try simp only [Act.put, List.getElem_toArray, List.getElem_cons_succ, List.getElem_cons_zero, List.setIfInBounds_toArray, List.set_cons_zero, List.set_cons_succ]
  refine reg_take (v := ?_) hR 1 rfl (by kernel_rfl) (by kernel_rfl) (by kernel_rfl) (fun _ _ _ h => h) (by rfl) ?_ ?_
  rotate_left
  · intro W hW; go_simp; try with_reducible rfl
  try simp only [Act.put, List.getElem_toArray, List.getElem_cons_succ, List.getElem_cons_zero, List.setIfInBounds_toArray, List.set_cons_zero, List.set_cons_succ]
  refine reg_take (v := ?_) hR 2 rfl (by kernel_rfl) (by kernel_rfl) (by kernel_rfl) (fun _ _ _ h => h) (by rfl) ?_ ?_
  rotate_left
  · intro W hW; go_simp; try with_reducible rfl
  try simp only [Act.put, List.getElem_toArray, List.getElem_cons_succ, List.getElem_cons_zero, List.setIfInBounds_toArray, List.set_cons_zero, List.set_cons_succ]
  refine reg_take (v := .pointer (some ⟨g, 0, none⟩)) hR 3 rfl (by kernel_rfl) (by kernel_rfl) (by kernel_rfl) (fun _ _ _ h => h) (by rfl) ?_ ?_
  · intro W hW; go_simp
  try simp only [Act.put, List.getElem_toArray, List.getElem_cons_succ, List.getElem_cons_zero, List.setIfInBounds_toArray, List.set_cons_zero, List.set_cons_succ]
  refine reg_take (v := .pointer (some ⟨gk, 0, none⟩)) hR 4 rfl (by kernel_rfl) (by kernel_rfl) (by kernel_rfl) (fun _ _ _ h => h) (by rfl) ?_ ?_
  · intro W hW; exact exec_load_cell 102 _ rfl Tryd.isAgg102 rfl ((hW.2 HG.out).trans HC0.out)
  try simp only [Act.put, List.getElem_toArray, List.getElem_cons_succ, List.getElem_cons_zero, List.setIfInBounds_toArray, List.set_cons_zero, List.set_cons_succ]
  refine reg_take (v := ?_) hR 5 rfl (by kernel_rfl) (by kernel_rfl) (by kernel_rfl) (fun _ _ _ h => h) (by rfl) ?_ ?_
  rotate_left
  · intro W hW; go_simp; try with_reducible rfl
  try simp only [Act.put, List.getElem_toArray, List.getElem_cons_succ, List.getElem_cons_zero, List.setIfInBounds_toArray, List.set_cons_zero, List.set_cons_succ]
  refine reg_take (v := ?_) hR 6 rfl (by kernel_rfl) (by kernel_rfl) (by kernel_rfl) (fun _ _ _ h => h) (by rfl) ?_ ?_
  rotate_left
  · intro W hW; go_simp; try with_reducible rfl
  try simp only [Act.put, List.getElem_toArray, List.getElem_cons_succ, List.getElem_cons_zero, List.setIfInBounds_toArray, List.set_cons_zero, List.set_cons_succ]
  refine reg_take (v := .pointer (some ⟨g, 1, none⟩)) hR 7 rfl (by kernel_rfl) (by kernel_rfl) (by kernel_rfl) (fun _ _ _ h => h) (by rfl) ?_ ?_
  · intro W hW; go_simp
  try simp only [Act.put, List.getElem_toArray, List.getElem_cons_succ, List.getElem_cons_zero, List.setIfInBounds_toArray, List.set_cons_zero, List.set_cons_succ]
  refine reg_take (v := ?_) hR 9 rfl (by kernel_rfl) (by kernel_rfl) (by kernel_rfl) (fun _ _ _ h => h) (by rfl) ?_ ?_
  rotate_left
  · intro W hW; go_simp; try with_reducible rfl
  try simp only [Act.put, List.getElem_toArray, List.getElem_cons_succ, List.getElem_cons_zero, List.setIfInBounds_toArray, List.set_cons_zero, List.set_cons_succ]
  refine reg_take (v := .pointer (some ad)) hR 10 rfl (by kernel_rfl) (by kernel_rfl) (by kernel_rfl) (fun _ _ _ h => h) (by rfl) ?_ ?_
  · intro W hW; exact exec_arrayAt 130 _ rfl rfl Tryd.underlying130 hn
  try simp only [Act.put, List.getElem_toArray, List.getElem_cons_succ, List.getElem_cons_zero, List.setIfInBounds_toArray, List.set_cons_zero, List.set_cons_succ]
  refine reg_take (v := .agg (cs8 l2).toArray) hR 11 rfl (by kernel_rfl) (by kernel_rfl) (by kernel_rfl) (fun _ _ _ h => h) (by rfl) ?_ ?_
  · intro W hW; exact exec_load_at 130 _ rfl ad rfl (cs8 l2) _ (HL.out W hW.1) Tryd.underlying130 rfl (by rw [HL2.out]; exact info41)
  try simp only [Act.put, List.getElem_toArray, List.getElem_cons_succ, List.getElem_cons_zero, List.setIfInBounds_toArray, List.set_cons_zero, List.set_cons_succ]
  -- STEP 8: Op.load 87 (t11)
  refine reg_step hR 8 (by kernel_rfl) rfl fun K hK => ?_
  try simp only [Act.put, List.getElem_toArray, List.getElem_cons_succ, List.getElem_cons_zero, List.setIfInBounds_toArray, List.set_cons_zero, List.set_cons_succ]
  rw [if_pos (by rfl)]
  refine wp_load_at 87 _ rfl ⟨g, 1, none⟩ rfl (cs64 st) _ HS.out Tryd.underlying87 rfl (by rw [HSL.out]; exact info38) ?_
  refine hK.out _ _ ?_ ?_
  · exact Kf.stays.refl _
  clear hK K
  try simp only [Act.put, List.getElem_toArray, List.getElem_cons_succ, List.getElem_cons_zero, List.setIfInBounds_toArray, List.set_cons_zero, List.set_cons_succ]
  -- STEP 12: Op.call { callee := Callee.value (Operand.func 89), args := #[t8, t12, t15], argTypes := #[102, 87, 130] }
  refine reg_step hR 12 (by kernel_rfl) rfl fun K hK => ?_
  try simp only [Act.put, List.getElem_toArray, List.getElem_cons_succ, List.getElem_cons_zero, List.setIfInBounds_toArray, List.set_cons_zero, List.set_cons_succ]
  go_simp
  refine hm.mono ?_; rintro e w2 ⟨rfl, hb2⟩
  refine hK.out _ _ ?_ ?_
  · exact Kf.of_old hb2
  have HB := Lib.hid hb2
  clear hb2
  clear hK K
  try simp only [Act.put, List.getElem_toArray, List.getElem_cons_succ, List.getElem_cons_zero, List.setIfInBounds_toArray, List.set_cons_zero, List.set_cons_succ]
  refine reg_take (v := ?_) hR 13 rfl (by kernel_rfl) (by kernel_rfl) (by kernel_rfl) (fun _ _ _ h => h) (by rfl) ?_ ?_
  rotate_left
  · intro W hW; go_simp; try with_reducible rfl
  try simp only [Act.put, List.getElem_toArray, List.getElem_cons_succ, List.getElem_cons_zero, List.setIfInBounds_toArray, List.set_cons_zero, List.set_cons_succ]
  refine reg_take (v := .pointer (some ⟨g, 1, none⟩)) hR 14 rfl (by kernel_rfl) (by kernel_rfl) (by kernel_rfl) (fun _ _ _ h => h) (by rfl) ?_ ?_
  · intro W hW; go_simp
  try simp only [Act.put, List.getElem_toArray, List.getElem_cons_succ, List.getElem_cons_zero, List.setIfInBounds_toArray, List.set_cons_zero, List.set_cons_succ]
  -- STEP 15: Op.store 87 (t18) (t16)
  refine reg_step hR 15 (by kernel_rfl) rfl fun K hK => ?_
  try simp only [Act.put, List.getElem_toArray, List.getElem_cons_succ, List.getElem_cons_zero, List.setIfInBounds_toArray, List.set_cons_zero, List.set_cons_succ]
  rw [if_pos (by rfl)]
  refine wp_store_mid 87 _ _ rfl g 1 (cs64 S2).toArray rfl rfl (HT.out w2 HB.out) (by have := HS2.out; simpa using this) (cs64_one _) ?_
  refine hK.out _ _ ?_ ?_
  · exact Kf.of_set (HT.out w2 HB.out) (by simp [cs64_length]; omega)
  clear hK K
  try simp only [Act.put, List.getElem_toArray, List.getElem_cons_succ, List.getElem_cons_zero, List.setIfInBounds_toArray, List.set_cons_zero, List.set_cons_succ]
  refine reg_done (by kernel_rfl) ?_ _

  go_wp2
  refine bodyPost_end (results_none rfl _ _ _) rfl ?_
  exact ⟨rfl, HF.out w2 HB.out, (Kp.stays _).trans (Kp.of_old (Below.refl _ w).drew) ((Kp.stays _).trans (Kp.of_old HB.out) (Kf.of_set (HT.out w2 HB.out) (by simp [cs64_length]; omega)).1)⟩
end Go.Proofs.YtdfihpnmiiaflaaDoor
end
section
/- Bytes put into a sum that is under way: put. -/
namespace Go.Proofs.YtdfihpnmiiaflaaDoor
set_option maxRecDepth 8192
open Go.RowKit

/-- What is left behind whole pieces. -/
def left (l : List UInt8) : List UInt8 := l.drop (128 * (l.length / 128))
theorem eat_next (KA st : List UInt64) (l : List UInt8) (h : 128 ≤ l.length) (S : List UInt64) (hS : eat KA (l.length / 128) st l = S) : eat KA ((l.drop 128).length / 128) (mix KA st (l.take 128)) (l.drop 128) = S := by
  rw [← hS, show l.length / 128 = (l.drop 128).length / 128 + 1 from by rw [List.length_drop]; omega, eat]
theorem left_next (l : List UInt8) (h : 128 ≤ l.length) (S : List UInt8) (hS : left l = S) : left (l.drop 128) = S := by
  rw [← hS, left, left, List.drop_drop, List.length_drop]
  congr 1
  omega
theorem eat_small (KA st : List UInt64) (l : List UInt8) (h : l.length < 128) (S : List UInt64) (hS : eat KA (l.length / 128) st l = S) : S = st := by
  rw [← hS, Nat.div_eq_of_lt h, eat]
theorem left_small (l : List UInt8) (h : l.length < 128) (S : List UInt8) (hS : left l = S) : S = l := by
  rw [← hS, left, Nat.div_eq_of_lt h]
  rfl

/-- The blocks that a put may write. -/
def may (g : Nat) (v : Value) (k : Nat) : Prop := k = g ∨ v.ownBlock = some k
def lenOf : Value → Nat | .slice _ n _ => n | _ => 0

section
variable {w w' : World} {g base : Nat} {v : Value}
theorem Kp.mono {m m' : Nat → Prop} (h : Kp m w w') (hm : ∀ k, m k → m' k) : Kp m' w w' := ⟨h.os, h.tape, h.output, h.size, fun k hk hn => h.block k hk (fun e => hn (hm k e))⟩
theorem Kp.of_grown (h : w.grownBy w' v.ownBlock) : Kp (may g v) w w' := ⟨h.os, h.tape, h.output, h.size, fun k hk hn => h.block k hk (fun e => hn (Or.inr e.symm))⟩
theorem Kp.of_cell (k : Nat) (u : Value) : Kp (may g v) w (w.setCell ⟨g, k, none⟩ u) := ⟨rfl, rfl, rfl, by simp [World.setCell], fun j _ hn => heap_setCell_other w ⟨g, k, none⟩ j u (fun e => hn (Or.inl e))⟩
theorem Bk.grown {cs : List Value} (h : Bk w g cs) (hg : w.grownBy w' v.ownBlock) (hne : v.ownBlock ≠ some g) : Bk w' g cs := by
  have := h.lt
  obtain ⟨t, h⟩ := h
  exact ⟨t, (hg.block g this (fun e => hne e.symm)).trans h⟩
theorem Rd.kpNe {top n c : Nat} {A : Option Addr} {l : List UInt8} {m : Nat → Prop} (h : Rd w top A n c l) (hk : Kp m w w') (ht : top ≤ w.heap.size) (hm : ∀ ad, A = some ad → ¬ m ad.block) : Rd w' top A n c l :=
  ⟨h.1, h.2.1, fun hn => by
    obtain ⟨ad, e, hb, hc⟩ := h.2.2 hn
    exact ⟨ad, e, hb, fun j u hu => (hk.cell (by rw [add_block]; omega) (by rw [add_block]; exact hm ad e)).trans (hc j u hu)⟩⟩
theorem Kp.via {m m' : Nat → Prop} {w2 : World} (h : Kp m w w') (k : Kp m' w' w2) (hm : ∀ j, j < w.heap.size → m' j → m j) : Kp m w w2 :=
  ⟨k.os.trans h.os, k.tape.trans h.tape, k.output.trans h.output, Nat.le_trans h.size k.size, fun i hi hn => (k.block i (Nat.lt_of_lt_of_le hi h.size) (fun e => hn (hm i hi e))).trans (h.block i hi hn)⟩
theorem ne_drop {A : Option Addr} {c k : Nat} (h : ∀ ad, A = some ad → ad.block ≠ g) : ∀ ad, (if c = k then A else A.map (·.add k)) = some ad → ad.block ≠ g := by
  intro ad hd
  split at hd
  · exact h ad hd
  · cases A with
    | none => cases hd
    | some a =>
      simp only [Option.map_some, Option.some.injEq] at hd
      subst hd
      rw [add_block]
      exact h a rfl
end
theorem rn_nine (gk : Nat) (st : List UInt64) (v : Value) (h : st.length = 8) : (rn gk st v)[9]? = some v := by
  obtain ⟨a, b, c, d, e, f, g, i, rfl⟩ := eight h
  rfl
theorem rn_set9 (gk : Nat) (st : List UInt64) (v u : Value) (h : st.length = 8) : (rn gk st v).set 9 u = rn gk st u := by
  obtain ⟨a, b, c, d, e, f, g, i, rfl⟩ := eight h
  rfl
theorem wp_load_cell {o : Oper} {a : Act} {w : World} {K : Act → World → Prop} {Q : Exit → Act → World → Prop} (ty : TypeId) (x : Operand) (ho : o.op = .load ty x) (hag : ∀ w, (isAgg ty).run Tryd.prog w = .ok false w)
    {ad : Addr} (hx : a.eval x = .pointer (some ad)) {v : Value} (hc : w.cell? ad = some v) (h : K (a.put o.dst v) w) : o.wp Tryd.prog a w K Q := by
  unfold Oper.wp
  rw [exec_load_cell ty x ho hag hx hc]
  exact h
/-- A slice put into its cell. -/
theorem wp_store_any {o : Oper} {a : Act} {w : World} {K : Act → World → Prop} {Q : Exit → Act → World → Prop} (x y : Operand) (ho : o.op = .store 30 x y) {g k n c : Nat} {A : Option Addr} {cs : List Value}
    (hx : a.eval x = .pointer (some ⟨g, k, none⟩)) (hy : a.eval y = .slice A n c) (hB : Bk w g cs) (hk : k < cs.length) (h : K (a.put o.dst undef) (w.setCell ⟨g, k, none⟩ (.slice A n c))) : o.wp Tryd.prog a w K Q := by
  have hc := hB.cell (List.getElem?_eq_getElem hk)
  have hf := hB.frozen k
  unfold Oper.wp execOp
  simp only [ho, hx, hy]
  simp [Instr.storeAt, Instr.sureAddr, storeVar, storeCells, Tryd.sizeOf30, hc, hf, go_sem]
  exact h
theorem wp_app2 {w : World} {o : Oper} {a : Act} {K : Act → World → Prop} {Q : Exit → Act → World → Prop} (s x : Operand)
    (ho : o.op = .call { callee := .builtin .append, args := #[s, x], argTypes := #[30, 30] })
    {base : Nat} {v : Value} {xs : List UInt8} (hs : a.eval s = v) (hown : Ow w base v xs) {top n c : Nat} {A : Option Addr} {l : List UInt8} (hx : a.eval x = .slice A n c) (hr : Rd w top A n c l)
    (hb : xs.length + n ≤ 140737488355328) (hbase : base ≤ w.heap.size)
    (h : ∀ v' w', Ow w' base v' (xs ++ l) → w.grownBy w' v.ownBlock → (v'.ownBlock = v.ownBlock ∨ v'.ownBlock = some w.heap.size) → K (a.put o.dst v') w') : o.wp Tryd.prog a w K Q := by
  obtain ⟨v', w', hrun, h2, h3, h4⟩ := run_app hown hr hb hbase o.type
  unfold Oper.wp execOp
  simp only [ho, resolve, invoke, builtin, Sem.run_bind, Sem.run_pure, Result.andThen_ok, List.map_toArray, List.map_cons, List.map_nil, hs, hx, hrun]
  exact h v' w' h2 h3 h4

/-- The row of a sum under way is another one: behind an append, the slice stored. -/
theorem Run.stored {w w2 : World} {base g gk : Nat} {KA st : List UInt64} {part part2 : List UInt8} {v v2 : Value} (h : Run w base g gk KA st part v) (hg : w.grownBy w2 v.ownBlock)
    (ho : Ow w2 base v2 part2) (hv : v2.ownBlock = v.ownBlock ∨ v2.ownBlock = some w.heap.size) : Run (w2.setCell ⟨g, 9, none⟩ v2) base g gk KA st part2 v2 := by
  have hlt := h.bk.lt
  have hne : v2.ownBlock ≠ some g := by
    rcases hv with e | e <;> rw [e]
    · exact h.ne
    · intro k; injection k with k; omega
  have hb := (h.bk.grown hg h.ne).setCell 9 v2
  rw [rn_set9 gk st v v2 h.len] at hb
  refine ⟨hb, ?_, hne, h.hg, ?_, h.hgk, h.len, h.kl⟩
  · exact World.ownsRow.kept ho ⟨rfl, rfl, rfl, by simp [World.setCell], fun k _ hk => heap_setCell_other w2 ⟨g, 9, none⟩ k v2 (fun e => hk (by rw [e]))⟩ (Or.inr hne)
  · refine (h.kb.grown hg ?_).setCell_ne (by have := h.hgk; have := h.hg; omega) _ _
    intro e
    have := (World.ownsRow.lt h.row gk e).1
    have := h.hgk
    omega
theorem Ow.cut {w : World} {base n c : Nat} {ad : Addr} {xs : List UInt8} (h : Ow w base (.slice (some ad) n c) xs) : Ow w base (.slice (some ad) 0 c) [] := by
  refine ⟨rfl, ?_⟩
  rcases h.2 with ⟨h', _⟩ | ⟨g, cap, cur, hv, hb, hg, hn, hc, hs, _⟩
  · cases h'
  · injection hv with h1 h2 h3
    injection h1 with h1
    subst h1 h3
    exact .inr ⟨g, c, cur, rfl, hb, hg, Nat.zero_le _, hc, hs, rfl⟩

/-- A row is where it was, or it is new. -/
def Fresh (w : World) (v v' : Value) : Prop := v'.ownBlock = v.ownBlock ∨ ∃ k, v'.ownBlock = some k ∧ w.heap.size ≤ k
/-- The part of a slice up to place h. -/
theorem run_slice31_hi {A : Option Addr} {n c h : Nat} (hh : h ≤ c) (i : Int) (hi : i = h) (w : World) : (Instr.slice 30 (.slice A n c) none (some (.int .i64 i)) none).run Tryd.prog w = .ok (.slice A h c) w := by
  subst hi
  have h2 : (h : Int) ≤ (c : Int) := by omega
  simp [Instr.slice, run_underlying Tryd.underlying30, Instr.sliceBounds, run_sliceBound, h2, Tryd.sizeOf5, go_sem]
theorem exec_slice31_hi {o : Oper} {a : Act} {w : World} (x y : Operand) (ho : o.op = .slice 30 x none (some y) none) {A : Option Addr} {n c h : Nat} {i : Int} (hx : a.eval x = .slice A n c) (hy : a.eval y = .int .i64 i) (hh : h ≤ c) (hi : i = h) :
    (execOp a.eval o).run Tryd.prog w = .ok (.value (.slice A h c)) w := by
  unfold execOp
  simp only [ho, hx, hy, Option.map_some, Option.map_none, Instr.sliceAt, Sem.run_bind, run_underlying Tryd.underlying30, Result.andThen_ok, run_slice31_hi hh i hi, Sem.run_pure]
/-- What a put leaves. -/
def Put (w : World) (base g gk : Nat) (KA st : List UInt64) (part : List UInt8) (v : Value) (w' : World) : Prop :=
  ∃ v', Run w' base g gk KA st part v' ∧ Kp (may g v) w w' ∧ Fresh w v v'
theorem may_via {w : World} {g : Nat} {v va : Value} (h : Fresh w v va) : ∀ j, j < w.heap.size → may g va j → may g v j := by
  rintro j hj (e | e)
  · exact Or.inl e
  · rcases h with h | ⟨k, h, hk⟩
    · exact Or.inr (h ▸ e)
    · rw [h] at e; injection e with e; omega

end Go.Proofs.YtdfihpnmiiaflaaDoor
end
section
/- Bytes put into a sum that is under way: put, walked. -/
namespace Go.Proofs.YtdfihpnmiiaflaaDoor
set_option maxRecDepth 8192
open Go.RowKit

set_option maxHeartbeats 1600000 in
set_option maxRecDepth 8192 in
theorem put_nil {A : Option Addr} {nr c : Nat} {l : List UInt8} {KA st : List UInt64} {v : Value} {base g gk : Nat} (w : World) (hR : Run w base g gk KA st [] v) (hr : Rd w w.heap.size A nr c l) (hn : nr ≤ 4294967296)
    (hA : ∀ ad, A = some ad → ad.block ≠ g) (SF : List UInt64) (PF : List UInt8) (hE : eat KA (l.length / 128) st l = SF) (hL : left l = PF) :
    Calls Tryd.prog 67 #[.pointer (some ⟨g, 0, none⟩), .slice A nr c] w fun e w' => e = .returned (.tuple #[]) ∧ Put w base g gk KA SF PF v w' := by
  obtain ⟨Aa, ca, rfl, _⟩ := hR.row.rdN (n := 0) rfl
  have HE := Lib.hid hE
  have HLft := Lib.hid hL
  have hc9 := hR.bk.cell (k := 9) (rn_nine _ _ _ hR.len)
  have HRun := Lib.hid hR
  have HRd := Lib.hid hr
  have HNE := Lib.hid hA
  have HKP : Hid (Kp (may g (.slice Aa 0 ca)) w w) := Lib.hid ((Kp.stays _).refl w)
  have HOB : Hid (Fresh w (.slice Aa 0 ca) (.slice Aa 0 ca)) := Lib.hid (Or.inl rfl)
  clear hR hr hA hE hL
  go_enter Tryd.func67, Tryd.ntmps67
  
  go_wp2_with fail
  have HOW := Lib.hid HRun.out.row
  go_loopw [1] (fun v1 wr => ∃ (A' : Option Addr) (n' c' : Nat) (l' : List UInt8) (st' : List UInt64), v1 = .slice A' n' c' ∧ n' ≤ nr ∧ Hid (Run wr base g gk KA st' [] (.slice Aa 0 ca)) ∧ Hid (Rd wr w.heap.size A' n' c' l') ∧ Hid (∀ ad, A' = some ad → ad.block ≠ g) ∧ Hid (Kp (may g (.slice Aa 0 ca)) w wr) ∧ Hid (eat KA (l'.length / 128) st' l' = SF) ∧ Hid (left l' = PF)) (fun v1 _ => lenOf v1)
  case atStart => exact ⟨_, _, _, _, _, rfl, Nat.le_refl _, HRun, HRd, HNE, HKP, HE, HLft⟩
  case round =>
    clear HRun HRd HNE HKP HE HLft
    obtain ⟨A', n', c', l', st', rfl, hnr', HRun, HRd, HNE, HKP, HE, HLft⟩ := hrel
    have hlen := HRd.out.len
    have hcap := HRd.out.cap
    by_cases hbig : 128 ≤ n'
    · try (exfalso; omega)
      all_goals
        go_wp2_with fail
        refine (step_any wr HRun.out ((HRd.out.take_ (k := 128) hbig).more HKP.out.size) (Nat.le_refl _) (fun ad h => HNE.out ad h)).mono ?_; rintro e w6 ⟨rfl, hR6, hK6⟩
        have HR6 := Lib.hid hR6
        have HK6 := Lib.hid hK6
        have HRd6 := Lib.hid ((HRd.out.kpNe hK6 HKP.out.size (fun ad h => HNE.out ad h)).drop_ hbig)
        have hE6 := Lib.hid (eat_next KA st' l' (by omega) SF HE.out)
        have hL6 := Lib.hid (left_next l' (by omega) PF HLft.out)
        rw [List.take_take, Nat.min_self] at HR6
        clear hR6 hK6
        go_wp2
        go_roundw
        case rel => exact ⟨_, n' - 128, c' - 128, l'.drop 128, _, rfl, by omega, HR6, HRd6, Lib.hid (ne_drop HNE.out), Lib.hid (HKP.out.via HK6.out (fun k _ h => Or.inl h)), hE6, hL6⟩
        case measure => simp [lenOf]; omega
    · have hE0 := eat_small KA st' l' (by omega) SF HE.out
      have hL0 := left_small l' (by omega) PF HLft.out
      have HR6 := Lib.hid HRun.out
      have hc9 := HRun.out.bk.cell (k := 9) (rn_nine _ _ _ HRun.out.len)
      have hB6 : base ≤ wr.heap.size := Nat.le_trans HRun.out.hg (Nat.le_of_lt HRun.out.bk.lt)
      go_wp2_with (at_builtin; refine wpList_app rfl _ _ rfl rfl HR6.out.row rfl (HRd.out.more HKP.out.size) (by simp; omega) hB6 ?_; intro v7 w7 ho7 hg7 hv7; obtain ⟨A7, c7, rfl, _⟩ := ho7.rdN (n := n') (by simpa using hlen); have HO7 := Lib.hid ho7; have HG7 := Lib.hid hg7; have HV7 := Lib.hid hv7; clear ho7 hg7 hv7; have hc97 := (HR6.out.bk.grown HG7.out HR6.out.ne).cell (k := 9) (rn_nine _ _ _ HR6.out.len); have hf97 := (HR6.out.bk.grown HG7.out HR6.out.ne).frozen 9)
      refine bodyPost_end (results_none rfl _ _ _) rfl ⟨rfl, .slice A7 n' c7, ?_, ?_, ?_⟩
      · rw [hE0, hL0]
        exact HR6.out.stored HG7.out (by simpa using HO7.out) HV7.out
      · exact HKP.out.via ((Kp.stays _).trans (Kp.of_grown (g := g) HG7.out) (Kp.of_cell 9 _)) (may_via HOB.out)
      · rcases HV7.out with e | e
        · rcases HOB.out with k | ⟨j, k, hj⟩
          · exact Or.inl (e.trans k)
          · exact Or.inr ⟨j, e.trans k, hj⟩
        · exact Or.inr ⟨_, e, HKP.out.size⟩
  
end Go.Proofs.YtdfihpnmiiaflaaDoor
end
