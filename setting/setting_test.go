package setting_test

import (
	"math/rand"
	"slices"
	"testing"

	"herald/api"
	"herald/setting"
)

var start = api.Set{Table: 4096, Push: 1, Streams: 2147483647, Window: 65535, Frame: 16384, List: 2147483647}

// odd is a set no field of which fits.
var odd = api.Set{Table: -5, Push: 9, Streams: 1 << 40, Window: -1 << 63, Frame: 3, List: 1023}

func p(id int, value int64) api.Param { return api.Param{ID: id, Value: value} }

func list(l ...api.Param) []api.Param { return l }

// changed is the set with another value of one field.
func changed(s api.Set, id int, value int64) api.Set {
	v := valuesOf(s)
	v[id] = value
	return v.set()
}

func wantFits(t *testing.T, s api.Set, want bool) {
	t.Helper()
	if got := setting.Fits(s); got != want {
		t.Errorf("P8.1: Fits(%v) = %v, want %v", s, got, want)
	}
}

func wantValid(t *testing.T, x api.Param, client bool, want int64) {
	t.Helper()
	if got := setting.Valid(x, client); got != want {
		t.Errorf("P8.1: Valid(%v, client %v) = %d, want %d", x, client, got, want)
	}
}

func wantApply(t *testing.T, promise string, s api.Set, l []api.Param, client bool, want api.Set) {
	t.Helper()
	if got, code := setting.Apply(s, l, client); got != want || code != 0 {
		t.Errorf("%s: Apply(%v, %s, client %v) = %v, %d, want %v", promise, s, shown(l), client, got, code, want)
	}
}

func wantRefused(t *testing.T, s api.Set, l []api.Param, client bool, want int64) {
	t.Helper()
	if got, code := setting.Apply(s, l, client); got != (api.Set{}) || code != want {
		t.Errorf("P8.1: Apply(%v, %s, client %v) = %v, %d, want zeros and %d", s, shown(l), client, got, code, want)
	}
}

func wantTables(t *testing.T, l []api.Param, want ...int64) {
	t.Helper()
	if got := setting.Tables(l); !slices.Equal(got, want) {
		t.Errorf("P8.1: Tables(%s) = %v, want %v", shown(l), got, want)
	}
}

func wantParams(t *testing.T, from, to api.Set, client bool, want ...api.Param) {
	t.Helper()
	if got := setting.Params(from, to, client); !slices.Equal(got, want) {
		t.Errorf("P8.1: Params(%v, %v, client %v) = %v, want %v", from, to, client, got, want)
	}
}

func TestExampleOne(t *testing.T) {
	if got := setting.Default(); got != start {
		t.Errorf("P8.1: Default() = %v, want %v", got, start)
	}
	wantFits(t, setting.Default(), true)
	for id, value := range map[int]int64{2: 2, 5: 16383, 4: 1 << 31, 1: 65537, 6: 1023} {
		wantFits(t, changed(start, id, value), false)
	}
}

func TestExampleTwo(t *testing.T) {
	wantValid(t, p(2, 1), true, 0)
	wantValid(t, p(2, 1), false, 1)
	wantValid(t, p(2, 0), false, 0)
	wantValid(t, p(2, 2), true, 1)
	wantValid(t, p(4, 2147483648), true, 3)
	wantValid(t, p(5, 16383), true, 1)
	wantValid(t, p(5, 16777215), true, 0)
	wantValid(t, p(5, 16777216), true, 1)
	wantValid(t, p(9, 4294967295), false, 0)
	wantValid(t, p(9, 4294967296), false, 1)
	wantValid(t, p(-1, 0), false, 1)
	wantValid(t, p(65536, 0), false, 1)
	wantValid(t, p(1, -1), true, 1)
}

func TestExampleThree(t *testing.T) {
	l := list(p(1, 0), p(4, 100), p(1, 70000), p(5, 16777215), p(7, 3))
	wantApply(t, "P8.1", start, l, true, api.Set{Table: 70000, Push: 1, Streams: 2147483647, Window: 100, Frame: 65536, List: 2147483647})
	wantRefused(t, start, list(p(1, 0), p(2, 2), p(4, 1<<31)), true, 1)
}

func TestExampleFour(t *testing.T) {
	wantTables(t, list(p(1, 0), p(4, 5), p(1, 70000), p(1, 4294967295), p(1, -3)), 0, 70000, 2147483647, -3)
	to := api.Set{Table: 4096, Push: 0, Streams: 100, Window: 65535, Frame: 16384, List: 2147483647}
	wantParams(t, start, to, true, p(2, 0), p(3, 100))
	wantParams(t, start, to, false, p(3, 100))
}

// TestFitsBounds: each field at its bounds and beyond them, the others right.
func TestFitsBounds(t *testing.T) {
	low := api.Set{Table: 0, Push: 0, Streams: 0, Window: 0, Frame: 16384, List: 1024}
	up := api.Set{Table: 65536, Push: 1, Streams: 2147483647, Window: 2147483647, Frame: 65536, List: 2147483647}
	for _, s := range []api.Set{low, up, start} {
		wantFits(t, s, true)
		for id := 1; id <= 6; id++ {
			wantFits(t, changed(s, id, valuesOf(low)[id]), true)
			wantFits(t, changed(s, id, valuesOf(up)[id]), true)
			wantFits(t, changed(s, id, valuesOf(low)[id]-1), false)
			wantFits(t, changed(s, id, valuesOf(up)[id]+1), false)
			for _, n := range edges() {
				wantFits(t, changed(s, id, n), n >= valuesOf(low)[id] && n <= valuesOf(up)[id])
			}
		}
	}
	wantFits(t, api.Set{}, false)
	wantFits(t, odd, false)
	for id := 1; id <= 6; id++ {
		wantFits(t, changed(odd, id, valuesOf(start)[id]), false)
	}
}

// TestValidBounds: each ID at each bound of its value, of both kinds of ends.
func TestValidBounds(t *testing.T) {
	for _, id := range []int{0, 1, 3, 6, 7, 8, 256, 65535} {
		for _, client := range []bool{true, false} {
			wantValid(t, p(id, -1), client, 1)
			wantValid(t, p(id, 0), client, 0)
			wantValid(t, p(id, 2147483648), client, 0)
			wantValid(t, p(id, 4294967295), client, 0)
			wantValid(t, p(id, 4294967296), client, 1)
		}
	}
	for n, code := range map[int64][2]int64{-1: {1, 1}, 0: {0, 0}, 1: {0, 1}, 2: {1, 1}, 4294967295: {1, 1}, 4294967296: {1, 1}} {
		wantValid(t, p(2, n), true, code[0])
		wantValid(t, p(2, n), false, code[1])
	}
	for _, client := range []bool{true, false} {
		for n, code := range map[int64]int64{-1: 1, 0: 0, 2147483647: 0, 2147483648: 3, 4294967295: 3, 4294967296: 1, 1 << 40: 1, 1<<63 - 1: 1, -1 << 63: 1} {
			wantValid(t, p(4, n), client, code)
		}
		for n, code := range map[int64]int64{-1: 1, 0: 1, 16383: 1, 16384: 0, 65536: 0, 65537: 0, 16777215: 0, 16777216: 1, 4294967295: 1, 4294967296: 1} {
			wantValid(t, p(5, n), client, code)
		}
	}
}

// TestValidAsModel: every ID of interest with every value of interest.
func TestValidAsModel(t *testing.T) {
	for _, id := range someIDs {
		for _, n := range edges() {
			wantValid(t, p(id, n), true, modelValid(p(id, n), true))
			wantValid(t, p(id, n), false, modelValid(p(id, n), false))
		}
	}
}

// TestValidUnknown: all IDs there are, and those just beyond.
func TestValidUnknown(t *testing.T) {
	for id := -10; id < 65546; id++ {
		want := int64(0)
		if id < 0 || id > 65535 {
			want = 1
		}
		if id < 1 || id > 6 {
			wantValid(t, p(id, 4294967295), id%2 == 0, want)
		}
	}
}

// TestApplyEach: one param of each field, whose other fields stay as they are.
func TestApplyEach(t *testing.T) {
	for _, s := range []api.Set{start, odd, {}} {
		for _, client := range []bool{true, false} {
			for _, n := range []int64{0, 1, 77, 16384, 65535} {
				for _, id := range []int{1, 3, 4, 6} {
					wantApply(t, "P8.1", s, list(p(id, n)), client, changed(s, id, n))
				}
			}
			wantApply(t, "P8.1", s, list(p(2, 0)), client, changed(s, 2, 0))
			wantApply(t, "P8.1", s, list(p(5, 16384)), client, changed(s, 5, 16384))
			wantApply(t, "P8.1", s, list(p(5, 65535)), client, changed(s, 5, 65535))
		}
		wantApply(t, "P8.1", s, list(p(2, 1)), true, changed(s, 2, 1))
		wantRefused(t, s, list(p(2, 1)), false, 1)
	}
}

// TestApplyAbove: of values that are too great for us the greatest is taken.
func TestApplyAbove(t *testing.T) {
	for _, s := range []api.Set{{}, start, odd} {
		for _, id := range []int{1, 3, 6} {
			wantApply(t, "P8.1", s, list(p(id, 2147483646)), true, changed(s, id, 2147483646))
			wantApply(t, "P8.1", s, list(p(id, 2147483647)), true, changed(s, id, 2147483647))
			wantApply(t, "P8.1", s, list(p(id, 2147483648)), true, changed(s, id, 2147483647))
			wantApply(t, "P8.1", s, list(p(id, 4294967295)), false, changed(s, id, 2147483647))
		}
		wantApply(t, "P8.1", s, list(p(4, 2147483647)), true, changed(s, 4, 2147483647))
		wantApply(t, "P8.1", s, list(p(5, 65536)), true, changed(s, 5, 65536))
		wantApply(t, "P8.1", s, list(p(5, 65537)), true, changed(s, 5, 65536))
		wantApply(t, "P8.1", s, list(p(5, 16777215)), false, changed(s, 5, 65536))
	}
	// What comes of it need not fit.
	wantApply(t, "P8.1", start, list(p(1, 65537), p(6, 0)), true, changed(changed(start, 1, 65537), 6, 0))
}

// TestApplyNothing: an empty list and unknown IDs change no set, not even one that
// doesn't fit.
func TestApplyNothing(t *testing.T) {
	for _, s := range []api.Set{start, odd, {}} {
		for _, client := range []bool{true, false} {
			wantApply(t, "P8.1", s, nil, client, s)
			wantApply(t, "P8.1", s, list(), client, s)
			wantApply(t, "P8.1", s, list(p(0, 5), p(7, 5), p(8, 1), p(256, 4294967295), p(257, 0), p(65535, 9)), client, s)
		}
	}
	wantRefused(t, odd, list(p(7, 4294967296)), true, 1)
	wantRefused(t, odd, list(p(65536, 1)), true, 1)
	wantRefused(t, odd, list(p(-1, 1)), false, 1)
}

// TestApplyFirstCode: which param is wrong first, not which code is the least,
// says the code; whatever stands ahead of it holds no more.
func TestApplyFirstCode(t *testing.T) {
	protocol := list(p(2, 2), p(5, 16383), p(5, 16777216), p(1, -1), p(9, 4294967296), p(65536, 0))
	for _, wrong := range protocol {
		for _, ahead := range [][]api.Param{nil, list(p(1, 0)), list(p(4, 5), p(4, 2147483647), p(7, 0), p(2, 0))} {
			for _, client := range []bool{true, false} {
				flow := p(4, 2147483648)
				wantRefused(t, start, slices.Concat(ahead, list(wrong, flow)), client, 1)
				wantRefused(t, start, slices.Concat(ahead, list(flow, wrong)), client, 3)
				wantRefused(t, start, slices.Concat(ahead, list(flow), ahead), client, 3)
				wantRefused(t, odd, slices.Concat(ahead, list(wrong), ahead), client, 1)
			}
		}
	}
	wantRefused(t, start, list(p(4, 1<<31), p(2, 1)), false, 3)
	wantRefused(t, start, list(p(2, 1), p(4, 1<<31)), false, 1)
	wantRefused(t, start, list(p(2, 1), p(4, 1<<31)), true, 3)
}

func TestApplyAsModel(t *testing.T) {
	r, all := rand.New(rand.NewSource(8)), edges()
	for range 30000 {
		s, client, l := randomSet(r, all), r.Intn(2) == 0, rightList(r, all, r.Intn(2) == 0)
		if r.Intn(3) == 0 {
			l = append(l, randomParam(r, all), randomParam(r, all))
			r.Shuffle(len(l), func(i, j int) { l[i], l[j] = l[j], l[i] })
		}
		want, code := modelApply(s, l, client)
		if code != 0 {
			wantRefused(t, s, l, client, code)
		} else {
			wantApply(t, "P8.1", s, l, client, want)
		}
	}
}

func TestTables(t *testing.T) {
	wantTables(t, nil)
	wantTables(t, list())
	wantTables(t, list(p(0, 1), p(2, 1), p(3, 1), p(4, 1), p(5, 1), p(6, 1), p(7, 1), p(-1, 1), p(65537, 1), p(257, 1)))
	wantTables(t, list(p(1, 5), p(1, 5), p(1, 3), p(1, 9)), 5, 5, 3, 9)
	wantTables(t, list(p(1, 2147483646), p(1, 2147483647), p(1, 2147483648), p(1, 4294967296), p(1, 1<<63-1)), 2147483646, 2147483647, 2147483647, 2147483647, 2147483647)
	wantTables(t, list(p(1, -1), p(1, -2147483648), p(1, -1<<63)), -1, -2147483648, -1<<63)
	// A list that Apply refuses has its values too.
	wantTables(t, list(p(2, 7), p(1, 6), p(4, 1<<40)), 6)
	r, all := rand.New(rand.NewSource(81)), edges()
	for range 3000 {
		var l []api.Param
		for range r.Intn(9) {
			l = append(l, p(r.Intn(3), all[r.Intn(len(all))]))
		}
		wantTables(t, l, modelTables(l)...)
	}
}

// TestParamsEach: each field by itself, and all of them.
func TestParamsEach(t *testing.T) {
	for id := 1; id <= 6; id++ {
		for _, n := range edges() {
			for _, s := range []api.Set{start, odd, {}} {
				if valuesOf(s)[id] == n {
					wantParams(t, s, changed(s, id, n), true)
					continue
				}
				wantParams(t, s, changed(s, id, n), true, p(id, n))
				if id == 2 {
					wantParams(t, s, changed(s, id, n), false)
				} else {
					wantParams(t, s, changed(s, id, n), false, p(id, n))
				}
			}
		}
	}
	to := api.Set{Table: 11, Push: 0, Streams: 33, Window: 44, Frame: 55, List: 66}
	wantParams(t, start, to, true, p(1, 11), p(2, 0), p(3, 33), p(4, 44), p(5, 55), p(6, 66))
	wantParams(t, start, to, false, p(1, 11), p(3, 33), p(4, 44), p(5, 55), p(6, 66))
	wantParams(t, to, start, true, p(1, 4096), p(2, 1), p(3, 2147483647), p(4, 65535), p(5, 16384), p(6, 2147483647))
	wantParams(t, to, start, false, p(1, 4096), p(3, 2147483647), p(4, 65535), p(5, 16384), p(6, 2147483647))
	to.Push = 1
	wantParams(t, start, to, true, p(1, 11), p(3, 33), p(4, 44), p(5, 55), p(6, 66))
	wantParams(t, start, to, false, p(1, 11), p(3, 33), p(4, 44), p(5, 55), p(6, 66))
}

func TestParamsAsModel(t *testing.T) {
	r, all := rand.New(rand.NewSource(82)), edges()
	for range 5000 {
		from := randomSet(r, all)
		to := mixed(r, randomSet(r, all), from)
		wantParams(t, from, to, true, modelParams(from, to, true)...)
		wantParams(t, from, to, false, modelParams(from, to, false)...)
	}
}
