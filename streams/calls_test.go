package streams_test

import (
	"encoding/binary"
	"math/rand"
	"runtime"
	"slices"
	"sync"
	"testing"

	"herald/state"
	"herald/streams"
)

// both are a table and the model of it, under the same events.
type both struct {
	x    *streams.Table
	m    *model
	done []act
}

func newBoth(client bool) *both {
	return &both{x: streams.New(client), m: &model{client: client}}
}

// do lets one event happen in both, and holds the verdicts and the stream against one another.
func (b *both) do(t *testing.T, a act) {
	t.Helper()
	b.done = append(b.done, a)
	if v, want := b.x.Do(a.id, a.e), b.m.do(a); v != want {
		t.Fatalf("P11.1: New(%v), %v: Do = %v, want %v", b.m.client, b.done, v, want)
	}
	b.lookAt(t, a.id)
}

func (b *both) lookAt(t *testing.T, id int64) {
	t.Helper()
	if s, want := b.x.State(id), b.m.state(id); s != want {
		t.Fatalf("P11.1: New(%v), %v: State(%d) = %d, want %d", b.m.client, b.done, id, s, want)
	}
	if cut, want := b.x.Cut(id), b.m.cut(id); cut != want {
		t.Fatalf("P11.1: New(%v), %v: Cut(%d) = %v, want %v", b.m.client, b.done, id, cut, want)
	}
}

// look holds all answers against one another, at the streams given, too.
func (b *both) look(t *testing.T, ids []int64) {
	t.Helper()
	for _, id := range ids {
		b.lookAt(t, id)
	}
	for _, local := range []bool{true, false} {
		if n, want := b.x.Count(local), b.m.count(local); n != want {
			t.Fatalf("P11.3: New(%v), %v: Count(%v) = %d, want %d", b.m.client, b.done, local, n, want)
		}
		if n, want := b.x.Last(local), b.m.last(local); n != want {
			t.Fatalf("P11.1: New(%v), %v: Last(%v) = %d, want %d", b.m.client, b.done, local, n, want)
		}
	}
	n, ok := b.x.Next()
	if want, there := b.m.next(); n != want || ok != there {
		t.Fatalf("P11.1: New(%v), %v: Next() = %d, %v, want %d, %v", b.m.client, b.done, n, ok, want, there)
	}
	if l, want := b.x.Live(), b.m.live(); !slices.Equal(l, want) {
		t.Fatalf("P11.3: New(%v), %v: Live() = %v, want %v", b.m.client, b.done, l, want)
	}
}

// near are the streams of the random orders' low numbers, and the edges.
func near() []int64 {
	ids := edges()
	for id := int64(3); id <= 40; id++ {
		ids = append(ids, id)
	}
	return ids
}

// TestOneEvent: P11.1: every event at every edge, in a new table and in one where streams were born and cut.
func TestOneEvent(t *testing.T) {
	befores := map[bool][][]act{
		true: {nil, {sent(3, state.Headers), got(4, state.Promise), sent(3, state.Reset), sent(4, state.Reset)},
			{sent(top, state.HeadersEnd), got(top-1, state.Promise)}},
		false: {nil, {got(3, state.Headers), sent(4, state.Promise), sent(3, state.Reset), sent(4, state.Reset)},
			{got(top, state.HeadersEnd), sent(top-1, state.Promise)}},
	}
	for _, client := range []bool{true, false} {
		for _, before := range befores[client] {
			for _, id := range append(edges(), 3, 4, 5, 6) {
				for _, e := range append(events(), state.Event{}, state.Event{Got: true}, state.Event{Kind: 9}, state.Event{Got: true, Kind: 9}) {
					b := newBoth(client)
					for _, a := range before {
						b.do(t, a)
					}
					b.do(t, act{id, e})
					b.look(t, []int64{0, 1, 2, 3, 4, 5, 6, top - 1, top, top + 1})
				}
			}
		}
	}
}

// TestShortOrders: P11.1: all orders of three events on four streams.
func TestShortOrders(t *testing.T) {
	ids := []int64{1, 2, 3, 4}
	var all []act
	for _, id := range ids {
		for _, e := range events() {
			all = append(all, act{id, e})
		}
	}
	for _, client := range []bool{true, false} {
		for _, a := range all {
			for _, b := range all {
				for _, c := range all {
					x := newBoth(client)
					x.do(t, a)
					x.do(t, b)
					x.do(t, c)
					x.look(t, ids)
				}
			}
		}
	}
}

// TestLongOrders: P11.1: long orders of events, with all answers behind each of them.
func TestLongOrders(t *testing.T) {
	ids := near()
	for seed := range int64(150) {
		r := rand.New(rand.NewSource(seed))
		b := newBoth(seed%2 == 0)
		for range 200 {
			b.do(t, randomAct(r, b.m))
			b.look(t, nil)
		}
		b.look(t, ids)
	}
}

// TestBirthsRise: P11.2: in long orders: streams of a kind are born rising, each once;
// what lies below a born one is never Idle again; what was skipped is Closed for ever.
func TestBirthsRise(t *testing.T) {
	for seed := range int64(60) {
		r := rand.New(rand.NewSource(1000 + seed))
		x, m := streams.New(seed%2 == 0), &model{client: seed%2 == 0}
		var births [2]int64
		skipped := map[int64]bool{}
		for range 150 {
			a := randomAct(r, m)
			m.do(a)
			was := x.State(a.id)
			x.Do(a.id, a.e)
			if was == state.Idle && x.State(a.id) != state.Idle {
				if births[a.id%2] >= a.id {
					t.Fatalf("P11.2: seed %d: %d is born behind %d", seed, a.id, births[a.id%2])
				}
				for id := births[a.id%2] + 2 - (a.id+births[a.id%2])%2; id < a.id && id < 100; id += 2 {
					skipped[id] = true
				}
				births[a.id%2] = a.id
			}
			wantNotIdle(t, x, births, skipped)
		}
	}
}

func wantNotIdle(t *testing.T, x *streams.Table, births [2]int64, skipped map[int64]bool) {
	t.Helper()
	for id := int64(1); id < 100; id++ {
		s := x.State(id)
		if (s == state.Idle) != (id > births[id%2]) {
			t.Fatalf("P11.2: State(%d) = %d, the greatest born are %v", id, s, births)
		}
		if skipped[id] && (s != state.Closed || x.Cut(id)) {
			t.Fatalf("P11.2: %d was skipped, its state is %d", id, s)
		}
	}
}

// TestCountsAgree: P11.3: the counts and Live, held against State alone.
func TestCountsAgree(t *testing.T) {
	ids := append(near(), top-3)
	slices.Sort(ids)
	for seed := range int64(60) {
		r := rand.New(rand.NewSource(2000 + seed))
		x, m := streams.New(seed%2 == 0), &model{client: seed%2 == 0}
		for range 150 {
			a := randomAct(r, m)
			m.do(a)
			v := x.Do(a.id, a.e)
			if a.e.Kind == state.Reset && v == fine && (state.Counts(x.State(a.id)) || slices.Contains(x.Live(), a.id)) {
				t.Fatalf("P11.3: seed %d: %v: a stream that was reset counts still", seed, a)
			}
			wantAgree(t, x, ids)
		}
	}
}

func wantAgree(t *testing.T, x *streams.Table, ids []int64) {
	t.Helper()
	live, counts := x.Live(), 0
	for i, id := range live {
		if i > 0 && live[i-1] >= id {
			t.Fatalf("P11.3: Live() = %v", live)
		}
		if s := x.State(id); s == state.Idle || s == state.Closed {
			t.Fatalf("P11.3: Live() = %v, State(%d) = %d", live, id, s)
		} else if state.Counts(s) {
			counts++
		}
	}
	for _, id := range ids {
		if s := x.State(id); s != state.Idle && s != state.Closed && !slices.Contains(live, id) {
			t.Fatalf("P11.3: Live() = %v without %d, whose state is %d", live, id, s)
		}
	}
	if n := x.Count(true) + x.Count(false); n != counts {
		t.Fatalf("P11.3: the counts are %d together, of Live %v %d count", n, live, counts)
	}
}

// TestSideBySide: P11.5: tables know nothing of one another.
func TestSideBySide(t *testing.T) {
	ids := []int64{0, 1, 2, 3, 4, 5, 6, 7, 8}
	for seed := range int64(20) {
		r := rand.New(rand.NewSource(3000 + seed))
		list := []*both{newBoth(true), newBoth(true), newBoth(false), newBoth(false)}
		still := []*both{newBoth(true), newBoth(false)}
		for range 120 {
			b := list[r.Intn(len(list))]
			b.do(t, randomAct(r, b.m))
			for _, x := range append(list, still...) {
				x.look(t, ids)
			}
		}
	}
}

// TestAskingChangesNothing: all that is asked between the events shows nowhere.
func TestAskingChangesNothing(t *testing.T) {
	for seed := range int64(20) {
		r := rand.New(rand.NewSource(4000 + seed))
		m := &model{client: true}
		asked, quiet := streams.New(true), streams.New(true)
		for range 100 {
			a := randomAct(r, m)
			m.do(a)
			for _, id := range edges() {
				asked.State(id)
				asked.Cut(id)
				asked.Cut(a.id + 2)
			}
			asked.Next()
			asked.Live()
			asked.Count(true)
			asked.Last(false)
			if v, w := asked.Do(a.id, a.e), quiet.Do(a.id, a.e); v != w {
				t.Fatalf("P11.1: seed %d: %v: %v, without asking %v", seed, a, v, w)
			}
			wantSame(t, asked, quiet)
		}
	}
}

func wantSame(t *testing.T, x, y *streams.Table) {
	t.Helper()
	if !slices.Equal(x.Live(), y.Live()) || x.Count(true) != y.Count(true) || x.Count(false) != y.Count(false) || x.Last(true) != y.Last(true) || x.Last(false) != y.Last(false) {
		t.Fatalf("P11.5: Live %v, %v; tables that were given the same differ", x.Live(), y.Live())
	}
}

// TestLiveIsNew: P11.5: a list that was answered is the caller's, its spare room too.
func TestLiveIsNew(t *testing.T) {
	x := withCut(t, true)
	wantFine(t, x, sent(7, state.Headers), sent(9, state.Headers))
	one, two := x.Live(), x.Live()
	want := []int64{5, 6, 7, 9}
	scribble(one)
	if !slices.Equal(two, want) {
		t.Errorf("P11.5: a list that was answered became %v", two)
	}
	wantLive(t, x, want...)
	scribble(two)
	wantFine(t, x, sent(11, state.Headers), sent(5, state.Reset))
	wantLive(t, x, 6, 7, 9, 11)
	for _, id := range []int64{6, 7, 9, 11} {
		wantFine(t, x, got(id, state.Reset))
	}
	wantLive(t, x)
	for _, n := range append(one[:cap(one)], two[:cap(two)]...) {
		if n != -7 {
			t.Fatalf("P11.5: a list that was answered was written to: %d", n)
		}
	}
}

// scribble writes over a list and its spare room.
func scribble(l []int64) {
	l = l[:cap(l)]
	for i := range l {
		l[i] = -7
	}
}

// TestBeside: P11.5: tables that run beside one another answer as one alone does.
func TestBeside(t *testing.T) {
	answers := make([][]state.Verdict, 8)
	var group sync.WaitGroup
	for i := range answers {
		group.Go(func() {
			r, m, x := rand.New(rand.NewSource(5000)), &model{client: true}, streams.New(true)
			for range 100 {
				a := randomAct(r, m)
				m.do(a)
				answers[i] = append(answers[i], x.Do(a.id, a.e))
			}
		})
	}
	group.Wait()
	for _, list := range answers {
		if !slices.Equal(list, answers[0]) {
			t.Error("P11.5: tables beside one another differ")
		}
	}
}

// TestEndedTakeNoRoom: streams that ended by themselves leave nothing behind, however many they were.
func TestEndedTakeNoRoom(t *testing.T) {
	x := streams.New(true)
	used := heap()
	for id := int64(1); id < 1<<18; id += 2 {
		wantFine(t, x, sent(id, state.HeadersEnd), got(id+1, state.Promise), got(id, state.HeadersEnd), got(id+1, state.HeadersEnd))
		if t.Failed() {
			return
		}
	}
	wantCount(t, x, true, 0)
	wantCount(t, x, false, 0)
	if more := int64(heap()) - int64(used); more > 1<<20 {
		t.Errorf("streams that ended take %d bytes", more)
	}
	wantLive(t, x)
	wantNext(t, x, 1<<18+1, true)
	for _, id := range []int64{1, 2, 1<<18 - 1, 1 << 18} {
		wantState(t, x, id, state.Closed)
		wantCut(t, x, id, false)
	}
}

func heap() uint64 {
	runtime.GC()
	var m runtime.MemStats
	runtime.ReadMemStats(&m)
	return m.HeapAlloc
}

// FuzzCalls: three bytes an event: its number, or a number at the edge; who sends it; its kind.
func FuzzCalls(f *testing.F) {
	f.Add(true, "\x01\x00\x02\x02\x01\x05\x02\x01\x01\x02\x01\x04\x06\x01\x05\x06\x00\x06\x06\x01\x01")
	f.Add(false, "\x05\x01\x02\x02\x00\x05\x02\x00\x02\x09\x01\x08\x04\x01\x01")
	f.Add(true, "\xff\x00\x01\xfe\x01\x03\xf0\x00\x02")
	f.Fuzz(func(t *testing.T, client bool, bytes string) {
		b, ends := newBoth(client), edges()
		for ; len(bytes) >= 3 && len(b.done) < 100; bytes = bytes[3:] {
			id := int64(bytes[0])
			if id >= 200 {
				id = ends[int(id)%len(ends)]
			}
			if bytes[1]&2 != 0 && len(bytes) >= 11 {
				id = int64(binary.BigEndian.Uint64([]byte(bytes[3:11])))
			}
			b.do(t, act{id, state.Event{Got: bytes[1]&1 != 0, Kind: int(bytes[2]) % 10}})
		}
		b.look(t, near())
		wantAgree(t, b.x, nil)
	})
}
