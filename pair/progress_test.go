package pair_test

import (
	"fmt"
	"math/rand"
	"testing"

	"herald/api"
	"herald/pair"
)

// busy is a world in which each of so many pages pushes eight others, all with
// bodies of so many bytes.
func busy(pages, bytes int, change func(*api.World)) api.World {
	w := world()
	w.Pages, w.Rules = nil, nil
	w.Conf = api.Conf{Entries: 64, Bytes: 1 << 30, Life: 100, Pending: 64}
	for i := range pages {
		of := fmt.Sprint("/page", i)
		r := rule(of)
		w.Pages = append(w.Pages, page(of, long(bytes)))
		for k := range 8 {
			path := fmt.Sprint(of, "-", k)
			r.Push = append(r.Push, target(path))
			if len(w.Pages) < 64-pages+i+1 {
				w.Pages = append(w.Pages, page(path, long(bytes)))
			}
		}
		w.Rules = append(w.Rules, r)
	}
	if change != nil {
		change(&w)
	}
	return w
}

// progress asks, and tells how many rounds it takes till all is answered and still,
// and how many T5 says.
func progress(t *testing.T, name string, w api.World, requests []api.Request, between func(p *pair.Pair, round int)) (int, int) {
	t.Helper()
	p, e := pair.New(w)
	if e != 0 {
		t.Fatalf("%s: New: %d", name, e)
	}
	n, body, most := len(requests), 0, 0
	for _, pg := range w.Pages {
		for _, c := range pg.Choices {
			most = max(most, len(c.Body))
		}
	}
	for _, r := range requests {
		body += len(r.Body)
		if e := p.Do(ask(r)); e != 0 {
			t.Fatalf("%s: Ask: %d", name, e)
		}
	}
	m := int(min(65535, w.Server.Window, w.Client.Window))
	bound := 40 + 50*n + 2*(body+9*n*most)/m
	took := 0
	c := p.Client()
	for ; took < bound && !(p.Still() && c.Waiting()+c.Flying() == 0); took++ {
		if between != nil {
			between(p, took)
		}
		p.Rounds(1)
	}
	if !p.Still() || len(c.Answers()) != n {
		t.Fatalf("T5: %s: behind %d rounds %d of %d are answered, Still is %v", name, bound, len(c.Answers()), n, p.Still())
	}
	for _, a := range c.Answers() {
		if a.Code != 0 && a.Code != cancel {
			t.Fatalf("T5: %s: %s", name, shown(a))
		}
	}
	p.Rounds(bound - took)
	if !p.Still() {
		t.Fatalf("T5: %s: it was still, and isn't any more", name)
	}
	return took, bound
}

// asks are requests for pages, one after the other, each with a body of so many bytes.
func asks(n, pages, body int) []api.Request {
	var all []api.Request
	for i := range n {
		r := get(fmt.Sprint("/page", i%pages))
		if body > 0 {
			r = with(long(body), by("POST", r))
		}
		all = append(all, r)
	}
	return all
}

// TestProgress is T5 at windows from 1 on.
func TestProgress(t *testing.T) {
	closest := 0.0
	for _, m := range []int64{1, 2, 3, 10, 100, 1000, 16383, 16384, 16385, 65534, 65535, 65536, top} {
		for _, bytes := range []int{0, 1, 2, 9, 100, 1000, 16384, 65535, 65536} {
			if int64(bytes) > 20*m {
				continue
			}
			for _, n := range []int{0, 1, 4} {
				if n*bytes > 70000 {
					continue
				}
				for _, streams := range []int64{1, top} {
					for _, body := range []int{0, bytes} {
						w := busy(3, bytes, func(w *api.World) {
							w.Server.Window, w.Client.Window = m, m
							w.Server.Streams, w.Client.Streams = streams, streams
						})
						name := fmt.Sprintf("window %d, %d bytes, %d requests, %d streams", m, bytes, n, streams)
						took, bound := progress(t, name, w, asks(n, 3, body), nil)
						closest = max(closest, float64(took)/float64(bound))
					}
				}
			}
		}
	}
	t.Logf("%.2f of the rounds at most", closest)
}

// TestProgressManyRequests: as many as may wait, one stream at a time.
func TestProgressManyRequests(t *testing.T) {
	for _, n := range []int{100, 256} {
		w := busy(7, 3, func(w *api.World) { w.Server.Streams, w.Client.Streams = 1, 1 })
		progress(t, fmt.Sprint(n, " requests"), w, asks(n, 7, 0), nil)
		progress(t, fmt.Sprint(n, " requests with bodies"), w, asks(n, 7, 5), nil)
	}
	w := busy(7, 65536, nil)
	took, bound := progress(t, "the greatest bodies", w, asks(60, 7, 0), nil)
	t.Logf("the greatest bodies, all pushed: %d rounds of %d", took, bound)
	w = busy(7, 65536, func(w *api.World) { w.Conf.Entries = 0 }) // each page's pushes come anew
	took, bound = progress(t, "the greatest bodies, eight times eight pushed", w, asks(8, 7, 0), nil)
	t.Logf("the greatest bodies, eight times eight pushed: %d rounds of %d", took, bound)
}

// TestProgressUnderWindowOne: a byte at a time, of one stream and of many.
func TestProgressUnderWindowOne(t *testing.T) {
	one := func(w *api.World) { w.Client.Window, w.Server.Window = 1, 1 }
	took, bound := progress(t, "one page", busy(1, 2000, one), asks(1, 1, 0), nil)
	t.Logf("%d rounds of %d", took, bound)
	took, bound = progress(t, "bodies", busy(3, 0, one), asks(6, 3, 1500), nil)
	t.Logf("%d rounds of %d", took, bound)
}

// TestProgressOfWhatIsNotTaken: pushes that are refused, foreign, held, cancelled,
// and that expire while they come.
func TestProgressOfWhatIsNotTaken(t *testing.T) {
	for name, change := range map[string]func(*api.World){
		"refused":  func(w *api.World) { w.Conf.Pending = 0 },
		"foreign":  func(w *api.World) { w.Origins = nil },
		"some":     func(w *api.World) { w.Conf.Pending = 2 },
		"not kept": func(w *api.World) { w.Conf.Entries = 0 },
		"short":    func(w *api.World) { w.Conf.Life = 0 },
		"off":      func(w *api.World) { w.Client.Push = 0 },
	} {
		for _, m := range []int64{1, 7, 300, 65535} {
			w := busy(4, 300, func(w *api.World) {
				change(w)
				w.Client.Window = m
			})
			progress(t, name, w, asks(9, 4, 0), nil)
			progress(t, name+", ticks", w, asks(9, 4, 0), func(p *pair.Pair, round int) {
				p.Do(move(moveTick, int64(round/3)))
			})
			progress(t, name+", cancels", w, asks(9, 4, 0), func(p *pair.Pair, round int) {
				p.Do(move(moveCancel, int64(round%5)))
			})
			progress(t, name+", changed windows", w, asks(9, 4, 0), func(p *pair.Pair, round int) {
				p.Do(set(changed(func(s *api.Set) { s.Window, s.Push = m+int64(round*7919%3000), w.Client.Push })))
			})
		}
	}
}

// TestProgressBehindAnyMoves: from wherever moves have brought a pair.
func TestProgressBehindAnyMoves(t *testing.T) {
	r := rand.New(rand.NewSource(2505))
	for range 300 {
		k := &maker{r: r, window: oneOf(r, int64(1), 1, 50), most: oneOf(r, 5, 60, 400)}
		w := randomWorld(r, k.window, k.most)
		x := newWitness(t, w, map[string]int{})
		for range r.Intn(100) {
			m := k.next()
			x.done = append(x.done, shownMove(m))
			if x.p.Do(m) == 0 {
				x.note(m)
			}
		}
		bound := x.bound()
		x.p.Rounds(bound)
		if !x.isOver() || len(x.p.Client().Answers()) != len(x.asked) {
			x.fail("T5: behind %d rounds %d of %d are answered, Still is %v", bound, len(x.p.Client().Answers()), len(x.asked), x.p.Still())
		}
	}
}

// TestNoProgress: what T5's premises are for. With no stream, or no window, something
// waits for ever; a set that gives room lets it go on.
func TestNoProgress(t *testing.T) {
	for name, change := range map[string]func(*api.World){
		"streams": func(w *api.World) { w.Client.Streams = 0 },
		"window":  func(w *api.World) { w.Client.Window = 0 },
	} {
		b := begunWith(t, worldWith(change))
		b.all(ask(get("/a")))
		b.rounds(400)
		b.wantPipes(0, 0)
		b.wantStill(false)
		b.all(set(standard()))
		b.rounds(40)
		b.wantStill(true)
		b.wantAnswers(answer(1, false, 1, "A"))
		if b.last.Held != 1 {
			t.Errorf("T10: %s: %d are held", name, b.last.Held)
		}
	}
}
