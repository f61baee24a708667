package setting_test

import (
	"fmt"
	"maps"
	"math/rand"
	"slices"

	"herald/api"
)

// The model has the chapter's numbers in rows, one a field, and sets as maps from
// IDs; a book of it keeps every list that was ever sent, and works the set out
// anew from the default each time.

type row struct {
	first           int64 // the default's
	fitsLow, fitsUp int64
	low, up         int64 // of a client's params
	below, above    int64 // the codes beyond these
	most            int64 // that a set takes of it
}

const (
	topValue = 4294967295
	topInt   = 2147483647
)

var rows = map[int]row{
	1: {4096, 0, 65536, 0, topValue, 1, 1, topInt},
	2: {1, 0, 1, 0, 1, 1, 1, 1},
	3: {topInt, 0, topInt, 0, topValue, 1, 1, topInt},
	4: {65535, 0, topInt, 0, topInt, 1, 3, topInt},
	5: {16384, 16384, 65536, 16384, 16777215, 1, 1, 65536},
	6: {topInt, 1024, topInt, 0, topValue, 1, 1, topInt},
}

type values map[int]int64

func valuesOf(s api.Set) values {
	return values{1: s.Table, 2: s.Push, 3: s.Streams, 4: s.Window, 5: s.Frame, 6: s.List}
}

func (v values) set() api.Set {
	return api.Set{Table: v[1], Push: v[2], Streams: v[3], Window: v[4], Frame: v[5], List: v[6]}
}

func modelDefault() api.Set {
	v := values{}
	for id, r := range rows {
		v[id] = r.first
	}
	return v.set()
}

func modelFits(s api.Set) bool {
	right := 0
	for id, n := range valuesOf(s) {
		if n >= rows[id].fitsLow && n <= rows[id].fitsUp {
			right++
		}
	}
	return right == 6
}

func modelValid(p api.Param, client bool) int64 {
	if p.ID < 0 || p.ID > 65535 || p.Value < 0 || p.Value > topValue {
		return 1
	}
	if p.ID == 2 && !client && p.Value != 0 {
		return 1
	}
	r, known := rows[p.ID]
	if known && p.Value < r.low {
		return r.below
	}
	if known && p.Value > r.up {
		return r.above
	}
	return 0
}

// modelApply looks for a code in all of the list first.
func modelApply(s api.Set, l []api.Param, client bool) (api.Set, int64) {
	for _, p := range l {
		if code := modelValid(p, client); code != 0 {
			return api.Set{}, code
		}
	}
	v := valuesOf(s)
	for _, p := range l {
		if r, known := rows[p.ID]; known {
			v[p.ID] = min(p.Value, r.most)
		}
	}
	return v.set(), 0
}

func modelTables(l []api.Param) []int64 {
	list := []int64{}
	for _, p := range l {
		switch {
		case p.ID != 1:
		case p.Value > topInt:
			list = append(list, topInt)
		default:
			list = append(list, p.Value)
		}
	}
	return list
}

func modelParams(from, to api.Set, client bool) []api.Param {
	list := []api.Param{}
	for id, n := range valuesOf(to) {
		if n != valuesOf(from)[id] {
			list = append(list, api.Param{ID: id, Value: n})
		}
	}
	slices.SortFunc(list, func(a, b api.Param) int { return a.ID - b.ID })
	return slices.DeleteFunc(list, func(p api.Param) bool { return p.ID == 2 && !client })
}

type modelBook struct {
	client bool
	sent   [][]api.Param
	acks   int
}

func (m *modelBook) send(l []api.Param) api.Errno {
	for _, p := range l {
		if modelValid(p, m.client) != 0 {
			return api.ErrArg
		}
	}
	if m.waiting() >= 64 {
		return api.ErrFull
	}
	m.sent = append(m.sent, slices.Clone(l))
	return api.OK
}

func (m *modelBook) ack() (api.Set, bool) {
	if m.waiting() == 0 {
		return api.Set{}, false
	}
	m.acks++
	return m.acked(), true
}

func (m *modelBook) waiting() int { return len(m.sent) - m.acks }

func (m *modelBook) acked() api.Set {
	s, _ := modelApply(modelDefault(), slices.Concat(m.sent[:m.acks]...), m.client)
	return s
}

// edges are values beside which an answer changes, both of them.
func edges() []int64 {
	at := map[int64]int{}
	for _, n := range []int64{0, 1, 1023, 4096, 16383, 65535, 65536, 16777215, topInt, topValue, -1 << 63, 1<<63 - 2, 1 << 32, 1 << 33} {
		at[n]++
		at[n+1]++
		if n > -1<<63 {
			at[n-1]++
		}
	}
	return slices.Sorted(maps.Keys(at))
}

var someIDs = []int{0, 1, 2, 3, 4, 5, 6, 7, 8, 9, 255, 256, 257, 261, 65534, 65535, 65536, 65537, 65540, -1, -2, -6, -65536, 1 << 31, 1<<32 + 4, -1 << 63, 1<<63 - 1}

func randomParam(r *rand.Rand, all []int64) api.Param {
	p := api.Param{ID: someIDs[r.Intn(len(someIDs))], Value: all[r.Intn(len(all))]}
	if r.Intn(4) > 0 {
		p.ID = 1 + r.Intn(7)
	}
	return p
}

// rightParam is one that isn't refused.
func rightParam(r *rand.Rand, all []int64, client bool) api.Param {
	for {
		if p := randomParam(r, all); modelValid(p, client) == 0 {
			return p
		}
	}
}

func rightList(r *rand.Rand, all []int64, client bool) []api.Param {
	var l []api.Param
	for range r.Intn(7) {
		l = append(l, rightParam(r, all, client))
	}
	return l
}

func randomSet(r *rand.Rand, all []int64) api.Set {
	v := values{}
	for id := 1; id <= 6; id++ {
		v[id] = all[r.Intn(len(all))]
	}
	return v.set()
}

// mixed has some of its fields from one set, some from the other.
func mixed(r *rand.Rand, a, b api.Set) api.Set {
	v := valuesOf(a)
	for id := 1; id <= 6; id++ {
		if r.Intn(3) == 0 {
			v[id] = valuesOf(b)[id]
		}
	}
	return v.set()
}

// fittingSet has values at random, and those at the bounds.
func fittingSet(r *rand.Rand) api.Set {
	v := values{}
	for id := 1; id <= 6; id++ {
		x := rows[id]
		switch r.Intn(4) {
		case 0:
			v[id] = x.first
		case 1:
			v[id] = x.fitsLow
		case 2:
			v[id] = x.fitsUp
		default:
			v[id] = x.fitsLow + r.Int63n(x.fitsUp-x.fitsLow+1)
		}
	}
	return v.set()
}

func shown(l []api.Param) string {
	if len(l) > 8 {
		return fmt.Sprintf("%v and %d more", l[:8], len(l)-8)
	}
	return fmt.Sprint(l)
}
