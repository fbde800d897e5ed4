/- A sum of bytes: sum. -/
import Derived.Test.YtjaoaikcmbfnmaaPu4
import Derived.Test.YtjaoaikcmbfnmaaSg
import Derived.Test.YtjaoaikcmbfnmaaPd
namespace Go.Proofs.Ytjaoaikcmbfnmaa
set_option maxRecDepth 8192
open Go.RowKit

/-- A slice of slices of bytes, that reads. -/
def Rl (w : World) (top : Nat) (B : Option Addr) (m : Nat) (L : List (List UInt8)) : Prop :=
  L.length = m ∧ ∀ j x, L[j]? = some x → ∃ ad A n c, B = some ad ∧ ad.block < top ∧ w.cell? (ad.add j) = some (.slice A n c) ∧ Rd w top A n c x ∧ (∀ a, A = some a → a.block < top)
theorem Rl.below {w w' : World} {top m : Nat} {B : Option Addr} {L : List (List UInt8)} (h : Rl w top B m L) (hb : Below top w w') : Rl w' top B m L :=
  ⟨h.1, fun j x hx => by
    obtain ⟨ad, A, n, c, e, hl, hc, hr, hA⟩ := h.2 j x hx
    exact ⟨ad, A, n, c, e, hl, (hb.cell (by rw [add_block]; exact hl)).trans hc, hr.below hb, hA⟩⟩

/-- All that lies below a block stays. -/
def Sb (top : Nat) (w w' : World) : Prop := Below top w w'
theorem Sb.stays (top : Nat) : Stays (Sb top) := ⟨fun w => Below.refl _ w, fun h k => Below.trans h k⟩

section
variable {P : Program} {ops : Array Oper} {Q : Exit → Act → World → Prop} {R : World → World → Prop}
/-- Two operations are ready: either order. -/
theorem reg_branch (hR : Stays R) (i k : Nat) {oi ok : Oper} {fuel : Nat} {listed : Array Bool} {a : Act} {w : World} (hr : Region.ready .any ops listed = [i, k]) (hoi : ops[i]? = some oi) (hok : ops[k]? = some ok)
    (h1 : ∀ K : Act → World → Prop, Shut (∀ a' w', R w w' → wpAnyH P .any ops Q (R w') fuel (listed.setIfInBounds i true) a' w' → K a' w') →
      if Region.wanted oi (yielded ops a.tmps) = true then Oper.wp P oi a w K Q else K (a.put oi.dst undef) w)
    (h2 : ∀ K : Act → World → Prop, Shut (∀ a' w', R w w' → wpAnyH P .any ops Q (R w') fuel (listed.setIfInBounds k true) a' w' → K a' w') →
      if Region.wanted ok (yielded ops a.tmps) = true then Oper.wp P ok a w K Q else K (a.put ok.dst undef) w) : wpAnyH P .any ops Q (R w) (fuel + 1) listed a w := by
  refine wpAnyH_all hr (by simp) fun j hj => ?_
  have hj' : j = i ∨ j = k := by simpa using hj
  rcases hj' with rfl | rfl
  · have h1 := h1 (fun a' w' => R w w' ∧ wpAnyH P .any ops Q (R w) fuel (listed.setIfInBounds j true) a' w') (fun a' w' hw hh => ⟨hw, held_weaken (fun W hW => hR.trans hw hW) _ _ _ _ hh⟩)
    unfold wpOp
    simp only [hoi]
    split
    · rename_i hw; rw [if_pos hw] at h1; exact .inl h1
    · rename_i hw; rw [if_neg hw] at h1; exact h1
  · have h1 := h2 (fun a' w' => R w w' ∧ wpAnyH P .any ops Q (R w) fuel (listed.setIfInBounds j true) a' w') (fun a' w' hw hh => ⟨hw, held_weaken (fun W hW => hR.trans hw hW) _ _ _ _ hh⟩)
    unfold wpOp
    simp only [hok]
    split
    · rename_i hw; rw [if_pos hw] at h1; exact .inl h1
    · rename_i hw; rw [if_neg hw] at h1; exact h1
end

/-- make([]byte, 0, C), as one operation. -/
theorem wp_make0 {w : World} {o : Oper} {a : Act} {K : Act → World → Prop} {Q : Exit → Act → World → Prop} (l c : Operand)
    (ho : o.op = Op.makeSlice 26 l c) {kl kc : IntKind} (C : Nat) (hl : a.eval l = .int kl 0) (hc : a.eval c = .int kc (C : Int)) (h1 : C ≤ 140737488355328)
    (h : ∀ w', Ow w' w.heap.size (.slice (some ⟨w.heap.size, 0, none⟩) 0 C) [] → Below w.heap.size w w' → w'.heap.size = w.heap.size + 1 → K (a.put o.dst (.slice (some ⟨w.heap.size, 0, none⟩) 0 C)) w') : o.wp Try.prog a w K Q := by
  obtain ⟨i, hi, hz0, hz1, hz2⟩ := info_parts info_u8
  have hm : (maxLen : Int) = 9223372036854775807 := by simp [maxLen]
  have hr := run_make (P := Try.prog) w 26 5 i (.int .u8 0) Try.underlying26 hi hz0 kl kc 0 C (Int.le_refl _) (by omega) (by rw [hz2]; omega) (by omega)
  rw [Int.toNat_natCast] at hr
  unfold Oper.wp execOp
  simp only [ho, hl, hc, hr, Sem.run_bind, Result.andThen_ok, Sem.run_pure]
  refine h _ ?_ ((Below.refl _ _).alloc (Nat.le_refl _) _) (by simp)
  have := World.ownsRow_made (base := w.heap.size) (e := 5) (size := 1) w (madeCells (Value.int .u8 0).cells (C * i.size)) C (Nat.le_refl _) (by simp only [maxLen]; omega) (by rw [size_madeCells, hz1])
  simpa [Ow, cs8] using this
theorem rn_one (gk : Nat) (st : List UInt64) (A : Option Addr) (n c : Nat) : (rn gk st (.slice A n c)).toArray.all (·.oneCell') = true := by
  rw [Array.all_eq_true_iff_forall_mem]
  intro x hx
  have hx' : x ∈ rn gk st (.slice A n c) := by simpa using hx
  rw [rn, List.mem_cons, List.mem_append] at hx'
  rcases hx' with e | e | e
  · subst e; rfl
  · rw [cs64, List.mem_map] at e; obtain ⟨u, _, rfl⟩ := e; rfl
  · rw [List.mem_singleton] at e; subst e; rfl
/-- The struct of a sum, made of its fields. -/
theorem exec_build60 {o : Oper} {a : Act} {w : World} {gk n c : Nat} {A : Option Addr} {st : List UInt64} (hs : st.length = 8) (x y z : Operand) (ho : o.op = .build 85 #[(0, x), (1, y), (2, z)])
    (hx : a.eval x = .pointer (some ⟨gk, 0, none⟩)) (hy : a.eval y = .agg (cs64 st).toArray) (hz : a.eval z = .slice A n c) : (execOp a.eval o).run Try.prog w = .ok (.value (.agg (rn gk st (.slice A n c)).toArray)) w := by
  obtain ⟨a0, b0, c0, d0, e0, f0, g0, h0, rfl⟩ := eight hs
  have hb : Try.prog.built 85 [(0, .pointer (some ⟨gk, 0, none⟩)), (1, .agg (cs64 [a0, b0, c0, d0, e0, f0, g0, h0]).toArray), (2, .slice A n c)] = some (rn gk [a0, b0, c0, d0, e0, f0, g0, h0] (.slice A n c)).toArray := by kernel_rfl
  unfold execOp
  simp only [ho, List.map_toArray, List.map_cons, List.map_nil, hx, hy, hz]
  rw [Sem.run_bind, run_build w 85 _ _ hb]
  rfl
theorem len_z60 : z60.length = 10 := by decide +kernel

theorem Ow.setRow {w : World} {base k : Nat} {v : Value} {xs : List UInt8} (h : Ow w base v xs) (hne : v.ownBlock ≠ some k) (cs : Array Value) : Ow (w.setRow k cs) base v xs :=
  World.ownsRow.kept h ⟨rfl, rfl, rfl, by simp [World.setRow], fun j _ hj => setRow_other w k j cs (fun e => hj (by rw [e]))⟩ (Or.inr hne)
/-- A sum that is under way, behind the bytes F: what stays beside it. -/
structure Going (w : World) (base g gk : Nat) (KA st : List UInt64) (F : List UInt8) (w0 : World) (v : Value) : Prop where
  run : Run w base g gk KA (eat KA (F.length / 128) st F) (left F) v
  old : Below base w0 w
  res : Bk w (base + 1) z33
  apart : v.ownBlock ≠ some (base + 1)
  far : base + 2 ≤ g
theorem Going.keep {w w' w0 : World} {base g gk : Nat} {KA st : List UInt64} {F : List UInt8} {v : Value} (h : Going w base g gk KA st F w0 v) (hb : Below w.heap.size w w') : Going w' base g gk KA st F w0 v := by
  have hlt := h.res.lt
  exact ⟨⟨h.run.bk.keep hb, Ow.below h.run.row hb, h.run.ne, h.run.hg, h.run.kb.keep hb, h.run.hgk, h.run.len, h.run.kl⟩, h.old.trans (hb.mono (by omega)), h.res.keep hb, h.apart, h.far⟩
theorem take_flat (L : List (List UInt8)) (t : Nat) (h : t < L.length) : (L.take (t + 1)).flatten = (L.take t).flatten ++ L[t] := by
  rw [List.take_succ_eq_append_getElem h, List.flatten_append]; simp
theorem flat_le (L : List (List UInt8)) (t : Nat) : (L.take t).flatten.length ≤ L.flatten.length := by
  have := congrArg (fun l => l.flatten.length) (List.take_append_drop t L)
  simp only [List.flatten_append, List.length_append] at this
  omega
theorem Going.put {w w' w0 : World} {base g gk : Nat} {KA st : List UInt64} {F l : List UInt8} {v : Value} (h : Going w base g gk KA st F w0 v)
    (hp : Put w base g gk KA (eat KA ((left F ++ l).length / 128) (eat KA (F.length / 128) st F) (left F ++ l)) (left (left F ++ l)) v w') : ∃ v', Going w' base g gk KA st (F ++ l) w0 v' := by
  obtain ⟨v', hr, hk, hf⟩ := hp
  obtain ⟨e1, e2⟩ := eat_more KA l _ F st rfl
  rw [e1, e2] at hr
  have hlt := h.res.lt
  have hbs : base ≤ w.heap.size := by omega
  refine ⟨v', hr, ?_, ?_, ?_, h.far⟩
  · refine h.old.trans ⟨hk.os, hk.tape, hk.output, hk.size, fun i hi => hk.block i (by omega) ?_⟩
    rintro (e | e)
    · have := h.far; omega
    · have := (World.ownsRow.lt h.run.row i e).1; omega
  · obtain ⟨t, hb⟩ := h.res
    refine ⟨t, (hk.block _ hlt ?_).trans hb⟩
    rintro (e | e)
    · have := h.far; omega
    · exact h.apart e
  · rcases hf with e | ⟨k, e, hk2⟩
    · rw [e]; exact h.apart
    · rw [e]; intro e2; injection e2 with e2; omega

set_option maxHeartbeats 1600000 in
set_option maxRecDepth 8192 in
theorem sum_any {B : Option Addr} {m c gk : Nat} {L : List (List UInt8)} {KA st : List UInt64} (w : World) (hL : Rl w w.heap.size B m L) (hm : m ≤ 1073741824) (hT : L.flatten.length ≤ 1073741824) (hs : st.length = 8) (hKA : 80 ≤ KA.length) (hK : Bk w gk (cs64 KA)) :
    Calls Try.prog 31 #[.pointer (some ⟨gk, 0, none⟩), .agg (cs64 st).toArray, .slice B m c] w fun e w' => e = .returned (.agg (cs8 (sumOf KA st L.flatten)).toArray) ∧ Below w.heap.size w w' := by
  have HSL := Lib.hid (show (cs64 st).length = 8 by rw [cs64_length, hs])
  have HL := Lib.hid hL
  have HK := Lib.hid hK
  have HS := Lib.hid hs
  have HKA := Lib.hid hKA
  clear hL hK hs hKA
  go_enter Try.func31, Try.ntmps31
  go_wp2_with (refine wpList_alloc_z rfl 70 rfl z33 zero33 ?_)
  have hB0 : Below w.heap.size w ((w.alloc (.cells (cs64 st).toArray 66)).alloc (.cells z33.toArray 70)) := bl_alloc (bl_alloc (bl0 w) _) _
  have HBX : Hid (Bk ((w.alloc (.cells (cs64 st).toArray 66)).alloc (.cells z33.toArray 70)) w.heap.size (cs64 st)) := Lib.hid ((Bk.new w (cs64 st) 66).old _)
  have HRS : Hid (Bk ((w.alloc (.cells (cs64 st).toArray 66)).alloc (.cells z33.toArray 70)) (w.heap.size + 1) z33) := Lib.hid (by
    have := Bk.new (w.alloc (.cells (cs64 st).toArray 66)) z33 70
    simpa using this)
  have hsz : ((w.alloc (.cells (cs64 st).toArray 66)).alloc (.cells z33.toArray 70)).heap.size = w.heap.size + 2 := by simp
  rw [show (w.alloc (.cells (cs64 st).toArray 66)).heap.size = w.heap.size + 1 from by simp]
  generalize (w.alloc (.cells (cs64 st).toArray 66)).alloc (.cells z33.toArray 70) = w1 at hB0 HBX HRS hsz ⊢
  have hRs := Sb.stays (w.heap.size + 2)
  refine reg_start (Sb (w.heap.size + 2)) follows_mixed ?_
  have hB1 := Lib.hid hB0.drew
  have hX1 := Lib.hid HBX.out.drew
  have hS1 := Lib.hid HRS.out.drew
  have hz1 : w1.drew.heap.size = w.heap.size + 2 := hsz
  clear HBX HRS hB0
  generalize w1.drew = w2 at hB1 hX1 hS1 hz1 ⊢
  refine reg_take (v := .pointer (some ⟨gk, 0, none⟩)) hRs 0 rfl (by kernel_rfl) (by kernel_rfl) (by kernel_rfl) (fun _ _ _ h => h) (by rfl) ?_ ?_
  · intro W hW; go_simp
  try simp only [Act.put, List.getElem_toArray, List.getElem_cons_succ, List.getElem_cons_zero, List.setIfInBounds_toArray, List.set_cons_zero, List.set_cons_succ]
  refine reg_take (v := .agg (cs64 st).toArray) hRs 1 rfl (by kernel_rfl) (by kernel_rfl) (by kernel_rfl) (fun _ _ _ h => h) (by rfl) ?_ ?_
  · intro W hW; exact exec_load_at 66 _ rfl ⟨w.heap.size, 0, none⟩ rfl (cs64 st) _ ((hX1.out.below hW (by omega)).at_) Try.underlying66 rfl (by rw [HSL.out]; exact info38)
  try simp only [Act.put, List.getElem_toArray, List.getElem_cons_succ, List.getElem_cons_zero, List.setIfInBounds_toArray, List.set_cons_zero, List.set_cons_succ]
  refine reg_branch hRs 2 4 (by kernel_rfl) rfl rfl (fun K hK => ?_) (fun K hK => ?_)
  · try simp only [Act.put, List.getElem_toArray, List.getElem_cons_succ, List.getElem_cons_zero, List.setIfInBounds_toArray, List.set_cons_zero, List.set_cons_succ]
    rw [if_pos (by rfl)]
    refine wp_make0 _ _ rfl 128 rfl rfl (by omega) ?_
    intro w3 ho3 hb3 hs3
    refine hK.out _ _ (hb3.mono (by omega)) ?_
    clear hK K
    try simp only [Act.put, List.getElem_toArray, List.getElem_cons_succ, List.getElem_cons_zero, List.setIfInBounds_toArray, List.set_cons_zero, List.set_cons_succ]
    refine reg_take (v := .agg (rn gk st (.slice (some ⟨w2.heap.size, 0, none⟩) 0 128)).toArray) hRs 3 rfl (by kernel_rfl) (by kernel_rfl) (by kernel_rfl) (fun _ _ _ h => h) (by rfl) ?_ ?_
    · intro W hW; exact exec_build60 HS.out _ _ _ rfl rfl rfl rfl
    try simp only [Act.put, List.getElem_toArray, List.getElem_cons_succ, List.getElem_cons_zero, List.setIfInBounds_toArray, List.set_cons_zero, List.set_cons_succ]
    refine reg_step hRs 4 (by kernel_rfl) rfl fun K hK => ?_
    try simp only [Act.put, List.getElem_toArray, List.getElem_cons_succ, List.getElem_cons_zero, List.setIfInBounds_toArray, List.set_cons_zero, List.set_cons_succ]
    rw [if_pos (by rfl)]
    refine wp_alloc_z 85 rfl z60 zero60 ?_
    have HZ := Lib.hid (Bk.new w3 z60 85)
    have ho4 := Lib.hid (Ow.alloc ho3 (.cells z60.toArray 85))
    have hb4 := Lib.hid (bl_alloc hb3 (.cells z60.toArray 85))
    have hs4 : (w3.alloc (.cells z60.toArray 85)).heap.size = w.heap.size + 4 := by simp; omega
    refine hK.out _ _ ((Below.refl _ _).alloc (by omega) _) ?_
    clear hK K ho3 hb3
    generalize w3.alloc (.cells z60.toArray 85) = w4 at HZ ho4 hb4 hs4 ⊢
    try simp only [Act.put, List.getElem_toArray, List.getElem_cons_succ, List.getElem_cons_zero, List.setIfInBounds_toArray, List.set_cons_zero, List.set_cons_succ]
    refine reg_step hRs 5 (by kernel_rfl) rfl fun K hK => ?_
    try simp only [Act.put, List.getElem_toArray, List.getElem_cons_succ, List.getElem_cons_zero, List.setIfInBounds_toArray, List.set_cons_zero, List.set_cons_succ]
    rw [if_pos (by rfl)]
    refine wp_store_bk 85 _ _ rfl w3.heap.size rfl (rn gk st (.slice (some ⟨w2.heap.size, 0, none⟩) 0 128)) z60 rfl HZ.out (by rw [rn_length _ _ _ HS.out]; exact info60) (by rw [rn_length _ _ _ HS.out]; exact len_z60) (rn_one _ _ _ _ _) ?_
    refine hK.out _ _ (below_setRow (Below.refl _ _) (by omega) _) ?_
    clear hK K
    try simp only [Act.put, List.getElem_toArray, List.getElem_cons_succ, List.getElem_cons_zero, List.setIfInBounds_toArray, List.set_cons_zero, List.set_cons_succ]
    refine reg_done (by kernel_rfl) ?_ _
    have HGO : Hid (Going (w4.setRow w3.heap.size (rn gk st (.slice (some ⟨w2.heap.size, 0, none⟩) 0 128)).toArray) w.heap.size w3.heap.size gk KA st [] w (Value.slice (some ⟨w2.heap.size, 0, none⟩) 0 128)) := Lib.hid ⟨⟨HZ.out.setRow _, (ho4.out.lower (by omega)).setRow (by simp [Value.ownBlock]; omega) _, by simp [Value.ownBlock]; omega, by omega, (HK.out.below (hB1.out.trans (hb4.out.mono (by omega))) HK.out.lt).other (by have := HK.out.lt; omega) _, HK.out.lt, by rw [List.length_nil]; exact HS.out, HKA.out⟩,
      below_setRow (hB1.out.trans (hb4.out.mono (by omega))) (by omega) _, (hS1.out.below hb4.out (by omega)).other (by omega) _, by simp [Value.ownBlock]; omega, by omega⟩
    clear HZ ho4 hb4 hX1 hS1 hB1
    generalize (w4.setRow w3.heap.size (rn gk st (.slice (some ⟨w2.heap.size, 0, none⟩) 0 128)).toArray) = wA at HGO ⊢
    generalize w3.heap.size = G at HGO ⊢
    generalize (Value.slice (some ⟨w2.heap.size, 0, none⟩) 0 128) = vA at HGO ⊢
    go_wp2
    go_loopw [8, 17] (fun v8 v17 wr => ∃ (t z : Nat) (v : Value), t ≤ m ∧ v17 = .int .i64 (t : Int) ∧ v8 = .int .u64 (z : Int) ∧ z ≤ 1073741824 ∧ Hid (z = (L.take t).flatten.length) ∧ Hid (Going wr w.heap.size G gk KA st (L.take t).flatten w v)) (fun _ v17 _ => m - (intOf v17).toNat)
    case atStart => exact ⟨0, 0, vA, by omega, rfl, rfl, by omega, Lib.hid rfl, HGO⟩
    case round =>
      clear HGO
      obtain ⟨t, z, v, ht, rfl, rfl, hz, HZ, HGO⟩ := hrel
      by_cases hlt : t < m
      · obtain ⟨ad, A, n, c', rfl, hadl, hcell, hrd, hAl⟩ := (HL.out.below HGO.out.old).2 t (L[t]'(by rw [HL.out.1]; exact hlt)) (List.getElem?_eq_getElem _)
        have hfl := take_flat L t (by rw [HL.out.1]; exact hlt)
        have hxl := hrd.len
        have hle : (L.take (t + 1)).flatten.length ≤ 1073741824 := Nat.le_trans (flat_le L (t + 1)) hT
        have hHL := HL.out.1
        generalize L[t]'(by rw [hHL]; exact hlt) = x at hrd hfl hxl
        have HFL := Lib.hid hfl
        have hsum : (L.take (t + 1)).flatten.length = z + n := by rw [hfl, List.length_append, hxl, HZ.out]
        have HSUM := Lib.hid hsum
        rw [hsum] at hle
        clear hsum
        have HRD := Lib.hid hrd
        have HAL := Lib.hid hAl
        clear hrd hAl hfl hxl hHL
        go_wp2_with fail
        refine (put_any wr HGO.out.run (left_length _) (HRD.out.more HGO.out.old.size) (by omega) (fun a h => ⟨?_, ?_⟩)).mono ?_
        · have := HAL.out a h; have := HGO.out.far; omega
        · intro e; have := (World.ownsRow.lt HGO.out.run.row _ e).1; have := HAL.out a h; omega
        rintro e w5 ⟨rfl, hP⟩
        obtain ⟨v', hG⟩ := HGO.out.put hP
        rw [← HFL.out] at hG
        have HG := Lib.hid hG
        clear hP hG
        go_wp2
        go_roundw
        case rel => exact ⟨t + 1, z + n, v', by omega, by go_num, by go_num, by omega, Lib.hid HSUM.out.symm, HG⟩
        case measure => simp [intOf]; omega
      · obtain rfl : t = m := by omega
        have hfl : (L.take t).flatten = L.flatten := by rw [List.take_of_length_le (by rw [HL.out.1]; exact Nat.le_refl _)]
        rw [hfl] at HGO HZ
        have HT := Lib.hid hT
        clear hT hfl
        have HPA := Lib.hid (padding_any z (by omega))
        have HZ2 := Lib.hid HZ.out
        clear HZ
        obtain ⟨TL, hTL⟩ : ∃ TL, Hid (padB z = TL) := ⟨_, Lib.hid rfl⟩
        rw [hTL.out] at HPA
        have hpl := padB_length z
        rw [hTL.out] at hpl
        have hpq : (239 - z % 128) % 128 < 128 := Nat.mod_lt _ (by omega)
        have hTLl : TL.length ≤ 145 := by omega
        clear hpl hpq
        have hB7 := HGO.out.run.bk.lt
        go_wp2_with fail
        refine (HPA.out _).mono ?_; rintro e w5 ⟨v5, rfl, ho5, hb5⟩
        obtain ⟨A5, c5, rfl, hr5⟩ := ho5.rdN rfl
        have HG5 := Lib.hid (HGO.out.keep hb5)
        go_wp2_with fail
        refine (put_any w5 HG5.out.run (left_length _) hr5 (by omega) (fun a h => ?_)).mono ?_
        · have hge : wr.heap.size ≤ a.block := (World.ownsRow.lt ho5 a.block (by rw [h]; rfl)).1
          refine ⟨by omega, fun e => ?_⟩
          have := (World.ownsRow.lt HGO.out.run.row _ e).2
          omega
        rintro e w6 ⟨rfl, hP⟩
        obtain ⟨v', hG⟩ := HG5.out.put hP
        have HG6 := Lib.hid hG
        have HSO := Lib.hid (show sumOf KA st L.flatten = signsOf (eat KA ((L.flatten ++ TL).length / 128) st (L.flatten ++ TL)) from by rw [sumOf, ← HZ2.out, hTL.out])
        have HS6 := Lib.hid hG.run.len
        clear hP hG ho5 hb5 hr5 HGO HG5
        obtain ⟨S6, h6⟩ : ∃ S6, S6 = eat KA ((L.flatten ++ TL).length / 128) st (L.flatten ++ TL) := ⟨_, rfl⟩
        rw [← h6] at HSO HS6
        have HS6L := Lib.hid (show (cs64 S6).length = 8 by rw [cs64_length, HS6.out])
        have HSG := Lib.hid (signs_any S6 HS6.out)
        have HRU : Hid (Bk w6 G (rn gk S6 v')) := Lib.hid (by rw [h6]; exact HG6.out.run.bk)
        clear h6
        go_wp2_with (refine wpList_load_at rfl 66 _ rfl _ rfl (cs64 S6) _ (HRU.out.range (rn_words gk S6 v')) Try.underlying66 rfl (by rw [HS6L.out]; exact info38) ?_)
        refine (HSG.out _).mono ?_; rintro e w7 ⟨rfl, hb7⟩
        have HG7 := Lib.hid (HG6.out.keep hb7)
        have HLS := Lib.hid (show (cs8 (signsOf S6)).length = 64 by rw [cs8_length, signs_length, HS6.out])
        go_wp2_with (refine wpList_store_bk rfl 70 _ _ rfl (w.heap.size + 1) rfl (cs8 (signsOf S6)) z33 rfl HG7.out.res (by rw [HLS.out]; exact info33) (by rw [HLS.out]; exact len_z33) (cs8_all _) ?_)
        refine ret_bk rfl (w.heap.size + 1) _ _ rfl rfl (HG7.out.res.setRow _) Try.underlying70 rfl (by rw [HLS.out]; exact info33) ⟨?_, below_setRow HG7.out.old (by omega) _⟩
        rw [HSO.out]
  · try simp only [Act.put, List.getElem_toArray, List.getElem_cons_succ, List.getElem_cons_zero, List.setIfInBounds_toArray, List.set_cons_zero, List.set_cons_succ]
    rw [if_pos (by rfl)]
    refine wp_alloc_z 85 rfl z60 zero60 ?_
    have HZ0 := Lib.hid (Bk.new w2 z60 85)
    have hb3 := Lib.hid (bl_alloc (bl0 w2) (.cells z60.toArray 85))
    have hs3 : (w2.alloc (.cells z60.toArray 85)).heap.size = w.heap.size + 3 := by simp; omega
    refine hK.out _ _ ((Below.refl _ _).alloc (by omega) _) ?_
    clear hK K
    generalize w2.alloc (.cells z60.toArray 85) = w3 at HZ0 hb3 hs3 ⊢
    try simp only [Act.put, List.getElem_toArray, List.getElem_cons_succ, List.getElem_cons_zero, List.setIfInBounds_toArray, List.set_cons_zero, List.set_cons_succ]
    refine reg_step hRs 2 (by kernel_rfl) rfl fun K hK => ?_
    try simp only [Act.put, List.getElem_toArray, List.getElem_cons_succ, List.getElem_cons_zero, List.setIfInBounds_toArray, List.set_cons_zero, List.set_cons_succ]
    rw [if_pos (by rfl)]
    refine wp_make0 _ _ rfl 128 rfl rfl (by omega) ?_
    intro w4 ho4 hb4 hs4
    refine hK.out _ _ (hb4.mono (by omega)) ?_
    have HZ := Lib.hid (HZ0.out.below hb4 (by omega))
    have hb4 := Lib.hid (bl_call hb3.out hb4)
    clear hK K HZ0 hb3
    try simp only [Act.put, List.getElem_toArray, List.getElem_cons_succ, List.getElem_cons_zero, List.setIfInBounds_toArray, List.set_cons_zero, List.set_cons_succ]
    refine reg_take (v := .agg (rn gk st (.slice (some ⟨w3.heap.size, 0, none⟩) 0 128)).toArray) hRs 3 rfl (by kernel_rfl) (by kernel_rfl) (by kernel_rfl) (fun _ _ _ h => h) (by rfl) ?_ ?_
    · intro W hW; exact exec_build60 HS.out _ _ _ rfl rfl rfl rfl
    try simp only [Act.put, List.getElem_toArray, List.getElem_cons_succ, List.getElem_cons_zero, List.setIfInBounds_toArray, List.set_cons_zero, List.set_cons_succ]
    refine reg_step hRs 5 (by kernel_rfl) rfl fun K hK => ?_
    try simp only [Act.put, List.getElem_toArray, List.getElem_cons_succ, List.getElem_cons_zero, List.setIfInBounds_toArray, List.set_cons_zero, List.set_cons_succ]
    rw [if_pos (by rfl)]
    refine wp_store_bk 85 _ _ rfl w2.heap.size rfl (rn gk st (.slice (some ⟨w3.heap.size, 0, none⟩) 0 128)) z60 rfl HZ.out (by rw [rn_length _ _ _ HS.out]; exact info60) (by rw [rn_length _ _ _ HS.out]; exact len_z60) (rn_one _ _ _ _ _) ?_
    refine hK.out _ _ (below_setRow (Below.refl _ _) (by omega) _) ?_
    clear hK K
    try simp only [Act.put, List.getElem_toArray, List.getElem_cons_succ, List.getElem_cons_zero, List.setIfInBounds_toArray, List.set_cons_zero, List.set_cons_succ]
    refine reg_done (by kernel_rfl) ?_ _
    have HGO : Hid (Going (w4.setRow w2.heap.size (rn gk st (.slice (some ⟨w3.heap.size, 0, none⟩) 0 128)).toArray) w.heap.size w2.heap.size gk KA st [] w (Value.slice (some ⟨w3.heap.size, 0, none⟩) 0 128)) := Lib.hid ⟨⟨HZ.out.setRow _, (ho4.lower (by omega)).setRow (by simp [Value.ownBlock]; omega) _, by simp [Value.ownBlock]; omega, by omega, (HK.out.below (hB1.out.trans (hb4.out.mono (by omega))) HK.out.lt).other (by have := HK.out.lt; omega) _, HK.out.lt, by rw [List.length_nil]; exact HS.out, HKA.out⟩,
      below_setRow (hB1.out.trans (hb4.out.mono (by omega))) (by omega) _, (hS1.out.below hb4.out (by omega)).other (by omega) _, by simp [Value.ownBlock]; omega, by omega⟩
    clear HZ ho4 hb4 hX1 hS1 hB1
    generalize (w4.setRow w2.heap.size (rn gk st (.slice (some ⟨w3.heap.size, 0, none⟩) 0 128)).toArray) = wA at HGO ⊢
    generalize w2.heap.size = G at HGO ⊢
    generalize (Value.slice (some ⟨w3.heap.size, 0, none⟩) 0 128) = vA at HGO ⊢
    go_wp2
    go_loopw [8, 17] (fun v8 v17 wr => ∃ (t z : Nat) (v : Value), t ≤ m ∧ v17 = .int .i64 (t : Int) ∧ v8 = .int .u64 (z : Int) ∧ z ≤ 1073741824 ∧ Hid (z = (L.take t).flatten.length) ∧ Hid (Going wr w.heap.size G gk KA st (L.take t).flatten w v)) (fun _ v17 _ => m - (intOf v17).toNat)
    case atStart => exact ⟨0, 0, vA, by omega, rfl, rfl, by omega, Lib.hid rfl, HGO⟩
    case round =>
      clear HGO
      obtain ⟨t, z, v, ht, rfl, rfl, hz, HZ, HGO⟩ := hrel
      by_cases hlt : t < m
      · obtain ⟨ad, A, n, c', rfl, hadl, hcell, hrd, hAl⟩ := (HL.out.below HGO.out.old).2 t (L[t]'(by rw [HL.out.1]; exact hlt)) (List.getElem?_eq_getElem _)
        have hfl := take_flat L t (by rw [HL.out.1]; exact hlt)
        have hxl := hrd.len
        have hle : (L.take (t + 1)).flatten.length ≤ 1073741824 := Nat.le_trans (flat_le L (t + 1)) hT
        have hHL := HL.out.1
        generalize L[t]'(by rw [hHL]; exact hlt) = x at hrd hfl hxl
        have HFL := Lib.hid hfl
        have hsum : (L.take (t + 1)).flatten.length = z + n := by rw [hfl, List.length_append, hxl, HZ.out]
        have HSUM := Lib.hid hsum
        rw [hsum] at hle
        clear hsum
        have HRD := Lib.hid hrd
        have HAL := Lib.hid hAl
        clear hrd hAl hfl hxl hHL
        go_wp2_with fail
        refine (put_any wr HGO.out.run (left_length _) (HRD.out.more HGO.out.old.size) (by omega) (fun a h => ⟨?_, ?_⟩)).mono ?_
        · have := HAL.out a h; have := HGO.out.far; omega
        · intro e; have := (World.ownsRow.lt HGO.out.run.row _ e).1; have := HAL.out a h; omega
        rintro e w5 ⟨rfl, hP⟩
        obtain ⟨v', hG⟩ := HGO.out.put hP
        rw [← HFL.out] at hG
        have HG := Lib.hid hG
        clear hP hG
        go_wp2
        go_roundw
        case rel => exact ⟨t + 1, z + n, v', by omega, by go_num, by go_num, by omega, Lib.hid HSUM.out.symm, HG⟩
        case measure => simp [intOf]; omega
      · obtain rfl : t = m := by omega
        have hfl : (L.take t).flatten = L.flatten := by rw [List.take_of_length_le (by rw [HL.out.1]; exact Nat.le_refl _)]
        rw [hfl] at HGO HZ
        have HT := Lib.hid hT
        clear hT hfl
        have HPA := Lib.hid (padding_any z (by omega))
        have HZ2 := Lib.hid HZ.out
        clear HZ
        obtain ⟨TL, hTL⟩ : ∃ TL, Hid (padB z = TL) := ⟨_, Lib.hid rfl⟩
        rw [hTL.out] at HPA
        have hpl := padB_length z
        rw [hTL.out] at hpl
        have hpq : (239 - z % 128) % 128 < 128 := Nat.mod_lt _ (by omega)
        have hTLl : TL.length ≤ 145 := by omega
        clear hpl hpq
        have hB7 := HGO.out.run.bk.lt
        go_wp2_with fail
        refine (HPA.out _).mono ?_; rintro e w5 ⟨v5, rfl, ho5, hb5⟩
        obtain ⟨A5, c5, rfl, hr5⟩ := ho5.rdN rfl
        have HG5 := Lib.hid (HGO.out.keep hb5)
        go_wp2_with fail
        refine (put_any w5 HG5.out.run (left_length _) hr5 (by omega) (fun a h => ?_)).mono ?_
        · have hge : wr.heap.size ≤ a.block := (World.ownsRow.lt ho5 a.block (by rw [h]; rfl)).1
          refine ⟨by omega, fun e => ?_⟩
          have := (World.ownsRow.lt HGO.out.run.row _ e).2
          omega
        rintro e w6 ⟨rfl, hP⟩
        obtain ⟨v', hG⟩ := HG5.out.put hP
        have HG6 := Lib.hid hG
        have HSO := Lib.hid (show sumOf KA st L.flatten = signsOf (eat KA ((L.flatten ++ TL).length / 128) st (L.flatten ++ TL)) from by rw [sumOf, ← HZ2.out, hTL.out])
        have HS6 := Lib.hid hG.run.len
        clear hP hG ho5 hb5 hr5 HGO HG5
        obtain ⟨S6, h6⟩ : ∃ S6, S6 = eat KA ((L.flatten ++ TL).length / 128) st (L.flatten ++ TL) := ⟨_, rfl⟩
        rw [← h6] at HSO HS6
        have HS6L := Lib.hid (show (cs64 S6).length = 8 by rw [cs64_length, HS6.out])
        have HSG := Lib.hid (signs_any S6 HS6.out)
        have HRU : Hid (Bk w6 G (rn gk S6 v')) := Lib.hid (by rw [h6]; exact HG6.out.run.bk)
        clear h6
        go_wp2_with (refine wpList_load_at rfl 66 _ rfl _ rfl (cs64 S6) _ (HRU.out.range (rn_words gk S6 v')) Try.underlying66 rfl (by rw [HS6L.out]; exact info38) ?_)
        refine (HSG.out _).mono ?_; rintro e w7 ⟨rfl, hb7⟩
        have HG7 := Lib.hid (HG6.out.keep hb7)
        have HLS := Lib.hid (show (cs8 (signsOf S6)).length = 64 by rw [cs8_length, signs_length, HS6.out])
        go_wp2_with (refine wpList_store_bk rfl 70 _ _ rfl (w.heap.size + 1) rfl (cs8 (signsOf S6)) z33 rfl HG7.out.res (by rw [HLS.out]; exact info33) (by rw [HLS.out]; exact len_z33) (cs8_all _) ?_)
        refine ret_bk rfl (w.heap.size + 1) _ _ rfl rfl (HG7.out.res.setRow _) Try.underlying70 rfl (by rw [HLS.out]; exact info33) ⟨?_, below_setRow HG7.out.old (by omega) _⟩
        rw [HSO.out]
end Go.Proofs.Ytjaoaikcmbfnmaa
