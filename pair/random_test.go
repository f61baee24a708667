package pair_test

import (
	"math/rand"
	"strings"
	"testing"

	"herald/api"
	"herald/lists"
)

func oneOf[T any](r *rand.Rand, all ...T) T { return all[r.Intn(len(all))] }

// longPath is one whose promise is above the least List.
var longPath = "/" + strings.Repeat("long", 300)

var somePaths = []string{"/0", "/1", "/2", "/3", "/4", longPath}

// randomSet is one by which all goes on: Streams and Window are 1 at least. With a
// window of 0 it may be one by which not all does.
func randomSet(r *rand.Rand, window int64) api.Set {
	set := api.Set{
		Table:   oneOf(r, int64(0), 100, 4096, 65536),
		Push:    oneOf(r, int64(0), 1, 1, 1, 1, 1),
		Streams: oneOf(r, int64(1), 2, 5, top),
		Window:  max(window, oneOf(r, int64(1), 100, 3000, 65535, top)),
		Frame:   oneOf(r, int64(16384), 16385, 65536),
		List:    oneOf(r, int64(1024), top, top),
	}
	if window == 0 && r.Intn(3) == 0 {
		set.Streams = 0
	}
	if window == 0 && r.Intn(3) == 0 {
		set.Window = 0
	}
	return set
}

// randomPage has bodies of at most so many bytes.
func randomPage(r *rand.Rand, authority, path string, most int) api.Page {
	body := func() string { return long(min(most, oneOf(r, 0, 1, 7, 40, 900, 20000, 65536))) }
	p := pageOf(authority, path, body())
	p.Status = oneOf(r, 200, 200, 200, 404, 599)
	switch r.Intn(6) {
	case 0:
		p.Vary, p.Choices = "accept", []api.Choice{{Value: "1", Body: body()}, {Value: "2", Body: body()}, {Value: "", Body: "none"}}
	case 1:
		p.Vary, p.Choices = "accept", []api.Choice{{Value: "1", Body: "1"}, {Value: "3", Body: "last"}}
	case 2:
		p.Vary = oneOf(r, "*", "accept")
	}
	return p
}

func randomWorld(r *rand.Rand, window int64, most int) api.World {
	w := api.World{
		Server:  randomSet(r, window),
		Client:  randomSet(r, window),
		Conf:    api.Conf{Entries: oneOf(r, int64(0), 1, 3, 64, 64), Bytes: oneOf(r, int64(0), 100, 1000, 1<<20, 1<<20, 1<<60), Life: oneOf(r, int64(0), 2, 2, 10, 1<<60), Pending: oneOf(r, int64(0), 1, 4, 64)},
		Origins: oneOf(r, []string{"https://x"}, []string{"https://x", "https://y"}, []string{"https://x", "https://y", "http://x"}, []string{"https://y"}, nil),
	}
	for _, authority := range []string{"x", "y"} {
		for _, path := range somePaths {
			if r.Intn(5) > 0 {
				w.Pages = append(w.Pages, randomPage(r, authority, path, most))
			}
			rule := api.Rule{Of: api.Target{Authority: authority, Path: path}}
			for _, other := range somePaths {
				if r.Intn(4) == 0 {
					rule.Push = append(rule.Push, api.Target{Authority: oneOf(r, authority, authority, "y"), Path: other})
				}
			}
			if r.Intn(3) > 0 {
				w.Rules = append(w.Rules, rule)
			}
		}
	}
	return w
}

// randomRequest has a body of at most so many bytes.
func randomRequest(r *rand.Rand, most int) api.Request {
	q := api.Request{Method: oneOf(r, "GET", "GET", "GET", "GET", "HEAD", "POST"), Scheme: oneOf(r, "https", "https", "https", "https", "http"), Authority: oneOf(r, "x", "x", "y"), Path: oneOf(r, append(somePaths, "/none")...)}
	if r.Intn(4) == 0 {
		q.Fields = lists.Of("accept", oneOf(r, "1", "2", "3", ""))
	}
	if r.Intn(8) == 0 {
		q.Fields = append(q.Fields, api.Field{Name: "cookie", Value: strings.Repeat("c", oneOf(r, 5, 400, 4000)), Never: r.Intn(2) == 0})
	}
	if r.Intn(30) == 0 {
		for range 12 {
			q.Fields = append(q.Fields, api.Field{Name: "x-long", Value: strings.Repeat("v", 4000)})
		}
	}
	if q.Method == "POST" || r.Intn(20) == 0 {
		q.Body = long(min(most, oneOf(r, 0, 1, 300, 20000, 65536)))
	}
	return q
}

// maker makes moves, with nothing forged.
type maker struct {
	r      *rand.Rand
	window int64 // the least
	most   int   // bytes of a body
	quiet  bool  // the settings stay what they were
	now    int64
	asked  int
	kept   []kept // what a request may be answered with
}

// request is often one like what is kept.
func (k *maker) request() api.Request {
	if len(k.kept) == 0 || k.r.Intn(2) == 0 {
		return randomRequest(k.r, k.most)
	}
	q := oneOf(k.r, k.kept...).request
	switch k.r.Intn(8) {
	case 0:
		q.Method = "HEAD"
	case 1:
		q.Fields = lists.Of("accept", oneOf(k.r, "1", "2"))
	case 2:
		q.Body = "b"
	case 3:
		q.Fields = lists.Of("x-other", "1")
	}
	return q
}

func (k *maker) next() api.Move {
	r := k.r
	switch n := r.Intn(60); {
	case n < 8:
		k.asked++
		return ask(k.request())
	case n < 9:
		return move(moveCancel, r.Int63n(int64(k.asked)+2))
	case n < 11:
		k.now += oneOf(r, int64(0), 1, 2, 3, 11)
		return move(moveTick, k.now)
	case n < 12:
		return put(randomPage(r, oneOf(r, "x", "y"), oneOf(r, somePaths...), k.most))
	case n < 14 && !k.quiet:
		return set(randomSet(r, k.window))
	case n < 27:
		return move(moveClient, r.Int63n(6))
	case n < 43:
		return move(moveServer, r.Int63n(6))
	case n < 51:
		return move(moveToServer, oneOf(r, -1, -1, -1, r.Int63n(60), r.Int63n(5000)))
	default:
		return move(moveToClient, oneOf(r, -1, -1, -1, r.Int63n(60), r.Int63n(5000)))
	}
}

// TestStuckWorlds is the same where Streams and Window may be 0: something may wait
// for ever, and all but T5 holds.
func TestStuckWorlds(t *testing.T) {
	r := rand.New(rand.NewSource(2511))
	tried := map[string]int{}
	for range 200 {
		k := &maker{r: r, most: 900}
		x := newWitness(t, randomWorld(r, 0, 900), tried)
		for range 160 {
			k.kept = x.keeper.kept
			x.do(k.next())
		}
		x.p.Rounds(1 << 30)
		x.look()
		x.legal()
		if x.isOver() {
			tried["over"]++
		} else {
			tried["stuck"]++
		}
	}
	for _, what := range []string{"over", "stuck", "promise taken", "kept", "cached true code 0", "cached false code 0"} {
		if tried[what] < 10 {
			t.Errorf("%s: %d times, too few to tell", what, tried[what])
		}
	}
}

// TestRandomWorlds is T1 to T10 in random worlds, but for T2, behind every move.
func TestRandomWorlds(t *testing.T) {
	r := rand.New(rand.NewSource(251))
	tried := map[string]int{}
	most := 0.0
	for i := range 450 {
		k := &maker{r: r, window: 1, most: 40, quiet: i%3 == 0}
		if i%2 == 0 {
			k.window, k.most = 1000, 65536
		}
		x := newWitness(t, randomWorld(r, k.window, k.most), tried)
		for n := range 160 {
			k.kept = x.keeper.kept
			x.do(k.next())
			if n%40 == 0 {
				x.legal()
			}
		}
		bound := x.bound()
		most = max(most, float64(x.ends())/float64(bound))
	}
	t.Logf("%.2f of T5's rounds at most; %v", most, tried)
	for _, what := range []string{
		"promise taken", "promise foreign", "promise too many", "promise held", "promise on a cut stream", "promise expired", "kept", "not kept", "thrown out", "expired", "whole plans",
		"reset 1", "reset 7", "reset 8", "cached true code 0", "cached false code 0", "cached false code 7", "cached false code 8", "cached true at the newest version",
	} {
		if tried[what] < 15 {
			t.Errorf("%s: %d times, too few to tell", what, tried[what])
		}
	}
}
