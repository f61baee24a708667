package cache_test

import (
	"fmt"
	"math/rand"
	"testing"

	"herald/api"
	"herald/lists"
)

func oneOf[T any](r *rand.Rand, l ...T) T { return l[r.Intn(len(l))] }

// randomRequest is one of few, so that they often match.
func randomRequest(r *rand.Rand) api.Request {
	q := getAt(oneOf(r, "/a", "/a", "/b", "/c"))
	if r.Intn(12) == 0 {
		q.Method = oneOf(r, "HEAD", "get", "")
	}
	if r.Intn(12) == 0 {
		q.Authority = oneOf(r, "A", "b", "")
	}
	for range r.Intn(3) {
		q.Fields = append(q.Fields, api.Field{Name: oneOf(r, "a", "a", "b", "A"), Value: oneOf(r, "1", "1", "2", ""), Never: r.Intn(9) == 0})
	}
	if r.Intn(9) == 0 {
		q.Body = oneOf(r, "x", "body")
	}
	return q
}

// randomResponse has a size of about n at most.
func randomResponse(r *rand.Rand, n int64) api.Response {
	a := sized(r.Intn(int(n)/2 + 1))
	a.Status = oneOf(r, 200, 404, -1)
	if r.Intn(8) == 0 {
		a = sized(int(n) + r.Intn(3) - 1)
	}
	if r.Intn(2) == 0 {
		a.Fields = append(a.Fields, api.Field{Name: "vary", Value: oneOf(r, "a", "A", "b", "a, b", " B ,A", "c", "", "a,,a")})
	}
	if r.Intn(15) == 0 {
		a.Fields = append(a.Fields, api.Field{Name: "vary", Value: oneOf(r, "*", "a,*", "b")})
	}
	if r.Intn(4) == 0 {
		a.Fields = append(a.Fields, api.Field{Name: oneOf(r, "", "Vary", "n"), Value: oneOf(r, "*", "v"), Never: r.Intn(2) == 0})
	}
	return a
}

// script is a cache under random calls: its clock goes on by small steps, and
// sometimes by one to an edge.
type script struct {
	*both
	r      *rand.Rand
	tick   int64
	stream int64
	tried  map[string]int // how often each thing came about
}

func newScript(t *testing.T, r *rand.Rand) *script {
	t.Helper()
	b := wantCache(t, oneOf[int64](r, 0, 1, 2, 3, 4, 8, 64), oneOf[int64](r, 1, 30, 100, 300, 1000), oneOf[int64](r, 0, 1, 2, 5, 20, 1<<60))
	return &script{both: b, r: r, tried: map[string]int{}}
}

// nextTick is mostly now or soon, and sometimes far behind or ahead.
func (s *script) nextTick() int64 {
	switch s.r.Intn(60) {
	case 0:
		return oneOf(s.r, least, -1, 0, s.tick-1, s.tick/2)
	case 1:
		s.tick = min(s.tick, greatest-1<<61) + oneOf[int64](s.r, 20, 21, 22, 100, 1<<60, 1<<60+1)
	case 2, 3, 4, 5, 6, 7, 8, 9:
		s.tick += oneOf[int64](s.r, 1, 1, 2, 3)
	}
	return s.tick
}

func (s *script) step(t *testing.T) {
	t.Helper()
	switch s.r.Intn(8) {
	case 0, 1, 2, 3:
		s.stream += 2 // no two are the same: P19.2 is told by their numbers
		kept, told := s.holdStore(t, randomRequest(s.r), randomResponse(s.r, s.m.conf.Bytes), s.stream, s.nextTick())
		s.tried[fmt.Sprint("stored ", kept, " told ", min(len(told), 3))]++
	case 4, 5:
		_, _, is := s.holdClaim(t, randomRequest(s.r), s.nextTick())
		s.tried[fmt.Sprint("given ", is)]++
	case 6:
		s.tried[fmt.Sprint("held ", s.holdHolds(t, randomRequest(s.r), s.nextTick()))]++
	default:
		s.tried[fmt.Sprint("ticked ", min(len(s.holdTick(t, s.nextTick())), 3))]++
	}
}

// TestRandomScripts: long lives against the model, all looked at and emptied in the
// end.
func TestRandomScripts(t *testing.T) {
	r := rand.New(rand.NewSource(191))
	tried := map[string]int{}
	for range 800 {
		s := newScript(t, r)
		for range 120 {
			s.step(t)
		}
		s.look(t, randomRequest(r), randomRequest(r))
		s.empty(t)
		for what, n := range s.tried {
			tried[what] += n
		}
	}
	for _, stored := range []bool{true, false} {
		for told := range 4 {
			if n := tried[fmt.Sprint("stored ", stored, " told ", told)]; n < 50 {
				t.Errorf("stored %v, %d told, %d times: too few to tell", stored, told, n)
			}
		}
	}
	for _, what := range []string{"given true", "given false", "held true", "held false", "ticked 0", "ticked 1", "ticked 2", "ticked 3"} {
		if tried[what] < 50 {
			t.Errorf("%s %d times: too few to tell", what, tried[what])
		}
	}
}

// TestRandomTurns: two caches in turns, under calls of their own and under the same
// ones, and a third that is never called.
func TestRandomTurns(t *testing.T) {
	r := rand.New(rand.NewSource(192))
	for range 200 {
		still := wantCache(t, 4, 100, 5)
		still.wantStore(t, getX(), sized(9), 2, 1, true)
		pair := []*script{newScript(t, r), newScript(t, r)}
		for range 80 {
			pair[r.Intn(2)].step(t)
			if r.Intn(4) == 0 {
				q, a, tick := randomRequest(r), randomResponse(r, 100), pair[0].nextTick()
				for _, s := range pair {
					s.stream += 2
					s.holdStore(t, q, a, s.stream, tick)
				}
			}
			pair[0].holdLooks(t)
			pair[1].holdLooks(t)
		}
		pair[0].empty(t)
		pair[1].empty(t)
		still.wantLooks(t, 1, 9)
		still.wantClaim(t, getX(), 6, sized(9), 2)
	}
}

// TestAgainTheSame: the same calls on a new cache have the same answers.
func TestAgainTheSame(t *testing.T) {
	var told []string
	for range 3 {
		s := newScript(t, rand.New(rand.NewSource(193)))
		for range 500 {
			s.step(t)
		}
		told = append(told, fmt.Sprint(s.tried, s.in, s.out, s.c.Len(), s.c.Bytes()))
	}
	if told[0] != told[1] || told[0] != told[2] {
		t.Errorf("R4: the same calls told %s, then %s, then %s", told[0], told[1], told[2])
	}
}

// FuzzCalls: two bytes a call, which one, and of what.
func FuzzCalls(f *testing.F) {
	f.Add(uint8(2), uint8(200), uint8(10), "\x00\x04\x04\x00\x08\x00\x18\x10")
	f.Add(uint8(1), uint8(40), uint8(0), "\x00\x01\x00\x02\x09\x00\x12\x00\x1b\x00")
	f.Add(uint8(64), uint8(255), uint8(3), "\x00\xff\x01\xfe\x02\xfd\x40\x00\x80\x05\xc0\x09\x0b\x03")
	f.Fuzz(func(t *testing.T, entries, bytes, life uint8, calls string) {
		b := holdNew(t, conf(int64(entries), int64(bytes), int64(life)))
		if b == nil {
			return
		}
		tick := int64(0)
		for i := 0; i+1 < min(len(calls), 400); i += 2 {
			what, of := calls[i], int(calls[i+1])
			tick += int64(what >> 5)
			q := getAt(string([]byte{'/', 'a' + what>>3&1}), "a", string([]byte{'0' + what>>4&1}))
			switch what & 7 {
			case 0, 1, 2:
				b.holdStore(t, q, sized(of), int64(i), tick)
			case 3:
				b.holdStore(t, q, ok(fmt.Sprint(of), "vary", []string{"a", "A", "b", "*"}[of&3]), int64(i), tick)
			case 4, 5:
				b.holdClaim(t, q, tick-int64(of&1))
			case 6:
				b.holdHolds(t, q, tick)
			default:
				b.holdTick(t, tick+int64(of&15))
			}
		}
		b.empty(t)
	})
}

// FuzzStore: any request and response, and any numbers.
func FuzzStore(f *testing.F) {
	f.Add("GET", "https", "a", "/x", "accept", "a", "vary", "Accept", "body", int64(2), int64(5), int64(15))
	f.Add("", "", "", "", "", "", "vary", "*", "", int64(0), int64(-1), int64(least))
	f.Add("HEAD", "x", "\xff", " ", "a", "1", "vary", "a,b", "b", int64(-3), int64(greatest), int64(greatest))
	f.Fuzz(func(t *testing.T, method, scheme, authority, path, name, value, field, says, body string, stream, arrival, tick int64) {
		q := api.Request{Method: method, Scheme: scheme, Authority: authority, Path: path, Fields: lists.Of(name, value, field, says, name, says)}
		r := ok(body, field, says, name, value, field, value)
		for _, x := range []api.Conf{conf(1, modelSize(r), 10), conf(2, modelSize(r)-1, 10), conf(2, 2*modelSize(r), 1<<60), conf(0, 1<<60, 0)} {
			b := holdNew(t, x)
			if b == nil {
				continue
			}
			given, answer, unchanged := watched(q, r)
			b.holdStore(t, given, answer, stream, arrival)
			b.holdStore(t, withBody(given, body), answer, stream, arrival)
			b.holdHolds(t, withBody(given, body), tick)
			b.holdHolds(t, getX(), arrival)
			b.holdClaim(t, given, tick)
			b.holdStore(t, given, answer, tick, stream)
			b.holdTick(t, arrival)
			b.empty(t)
			if !unchanged() {
				t.Errorf("P19.6: %s, %s or the room behind them was changed", lists.ShownRequest(q), lists.ShownResponse(r))
			}
		}
	})
}
