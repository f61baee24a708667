package setting_test

import (
	"math/rand"
	"slices"
	"testing"

	"herald/api"
	"herald/lists"
	"herald/setting"
)

// TestThereAndBack: P8.2, of a client, and of a server whose Push stays.
func TestThereAndBack(t *testing.T) {
	r := rand.New(rand.NewSource(83))
	for range 5000 {
		from := fittingSet(r)
		to := mixed(r, fittingSet(r), from)
		thereAndBack(t, from, to, true)
		thereAndBack(t, from, changed(to, 2, from.Push), false)
	}
}

func thereAndBack(t *testing.T, from, to api.Set, client bool) {
	t.Helper()
	l := setting.Params(from, to, client)
	wantApply(t, "P8.2", from, l, client, to)
	for i := range l {
		less := slices.Delete(slices.Clone(l), i, i+1)
		if s, code := setting.Apply(from, less, client); s == to || code != 0 {
			t.Errorf("P8.2: Params(%v, %v, client %v) = %v, but %v does it, or is refused: %d", from, to, client, l, less, code)
		}
	}
	for _, s := range []api.Set{from, to} {
		if same := setting.Params(s, s, client); len(same) != 0 {
			t.Errorf("P8.2: Params of %v and itself: %v", s, same)
		}
	}
}

// TestNoShorterList: all lists of fewer params out of some, among them all that
// could be of use.
func TestNoShorterList(t *testing.T) {
	for _, to := range []api.Set{
		changed(start, 4, 7),
		changed(changed(start, 1, 0), 6, 1024),
		changed(changed(changed(start, 2, 0), 3, 0), 5, 65536),
	} {
		told := setting.Params(start, to, true)
		some := slices.Concat(told, setting.Params(to, start, true), list(p(7, 1), p(1, 4294967295), p(5, 16777215)))
		tried := make([]api.Param, 0, 3)
		var all func()
		all = func() {
			if s, _ := setting.Apply(start, tried, true); s == to && len(tried) < len(told) {
				t.Errorf("P8.2: Params(%v, %v) = %v, but %v does it", start, to, told, tried)
			}
			if len(tried)+1 >= len(told) {
				return
			}
			for _, x := range some {
				tried = append(tried, x)
				all()
				tried = tried[:len(tried)-1]
			}
		}
		all()
		wantApply(t, "P8.2", start, told, true, to)
	}
}

// TestOneByOne: P8.3, two lists one by one, of sets that fit and others.
func TestOneByOne(t *testing.T) {
	r, all := rand.New(rand.NewSource(84)), edges()
	for range 20000 {
		s, client := randomSet(r, all), r.Intn(2) == 0
		a, b := rightList(r, all, client), rightList(r, all, client)
		half, code := setting.Apply(s, a, client)
		if code != 0 {
			t.Fatalf("P8.3: Apply(%v, %s, client %v) is refused: %d", s, shown(a), client, code)
		}
		both, _ := setting.Apply(half, b, client)
		wantApply(t, "P8.3", s, slices.Concat(a, b), client, both)
	}
}

// TestLastCounts: of each field all params but the last can be left out, wherever
// they stand.
func TestLastCounts(t *testing.T) {
	r, all := rand.New(rand.NewSource(85)), edges()
	for range 20000 {
		s, client := randomSet(r, all), r.Intn(2) == 0
		l := slices.Concat(rightList(r, all, client), rightList(r, all, client))
		var last []api.Param
		for i, x := range l {
			if !slices.ContainsFunc(l[i+1:], func(y api.Param) bool { return y.ID == x.ID }) {
				last = append(last, x)
			}
		}
		want, _ := setting.Apply(s, last, client)
		wantApply(t, "P8.3", s, l, client, want)
		slices.Reverse(last)
		wantApply(t, "P8.3", s, last, client, want)
	}
	wantApply(t, "P8.3", start, list(p(4, 1), p(3, 9), p(4, 2147483647), p(4, 3), p(3, 8)), true, changed(changed(start, 4, 3), 3, 8))
}

// TestRangesBehindApply: what a taken list makes of a set that fits.
func TestRangesBehindApply(t *testing.T) {
	r, all := rand.New(rand.NewSource(86)), edges()
	for range 20000 {
		s, client := fittingSet(r), r.Intn(2) == 0
		l := rightList(r, all, client)
		got, code := setting.Apply(s, l, client)
		for id, n := range valuesOf(got) {
			low, up := int64(0), int64(2147483647)
			switch id {
			case 2:
				up = 1
			case 5:
				low, up = 16384, 65536
			}
			if n < low || n > up || code != 0 {
				t.Errorf("P8.3: Apply(%v, %s, client %v) = %v, %d: field %d", s, shown(l), client, got, code, id)
			}
		}
	}
}

// TestHandedInStays: P8.5, neither a list nor its spare room is changed, whether
// it is taken or refused.
func TestHandedInStays(t *testing.T) {
	for _, l := range [][]api.Param{
		{},
		list(p(1, 70000), p(1, 4294967295), p(5, 16777215), p(7, 3), p(4, 9), p(4, 3), p(2, 0)),
		list(p(6, 1), p(4, 1<<31), p(2, 2)),
		list(p(1, 4294967295), p(65536, 1), p(1, -3), p(1, 1<<40)),
	} {
		x, same := lists.Watched(l, p(-7, -7), p(-8, -8), p(-9, -9))
		b := setting.NewBook(true)
		for range 70 {
			b.Send(x)
		}
		setting.Tables(x)
		setting.Apply(start, x, true)
		setting.Apply(start, x, false)
		b.Ack()
		if !same() {
			t.Errorf("P8.5: %s or the room behind it was changed", shown(l))
		}
	}
}

// TestAnsweredIsNew: P8.5, an answer can be written over, its spare room too,
// without being seen in another or in what was handed in.
func TestAnsweredIsNew(t *testing.T) {
	to := api.Set{Table: 11, Push: 0, Streams: 33, Window: 44, Frame: 55, List: 66}
	one, two := setting.Params(start, to, true), setting.Params(start, to, true)
	lists.Scribble(one, p(-7, -7))
	if !slices.Equal(two, modelParams(start, to, true)) {
		t.Errorf("P8.5: with one answer of Params written over the other is %v", two)
	}
	wantParams(t, start, to, true, modelParams(start, to, true)...)
	if one[0] != p(-7, -7) {
		t.Errorf("P8.5: Params writes into its earlier answer: %v", one)
	}

	l := list(p(1, 1), p(1, 2), p(1, 3))
	first, second := setting.Tables(l), setting.Tables(l)
	lists.Scribble(first, -7)
	if !slices.Equal(second, []int64{1, 2, 3}) {
		t.Errorf("P8.5: with one answer of Tables written over the other is %v", second)
	}
	wantTables(t, l, 1, 2, 3)
	lists.Scribble(l, p(1, 9))
	if !slices.Equal(second, []int64{1, 2, 3}) || first[0] != -7 {
		t.Errorf("P8.5: with the list written over Tables' answers are %v, %v", first, second)
	}

	d := setting.Default()
	d.Window, d.Table = 1, 2
	if again := setting.Default(); again != start {
		t.Errorf("P8.5: with one answer of Default written over the next is %v", again)
	}
}
