package trace_test

import (
	"fmt"
	"math/rand"
	"testing"

	"herald/api"
	"herald/client"
	"herald/conn"
	"herald/lists"
	"herald/server"
	"herald/setting"
)

// wire is a client's conn and a server's, and what is on its way to each.
type wire struct {
	t     *testing.T
	r     *rand.Rand
	ends  [2]*conn.Conn // the client's, the server's
	pipes [2]string     // to the client, to the server
	tried map[string]int
}

// randomSet is one that fits.
func randomSet(r *rand.Rand) api.Set {
	set := setting.Default()
	set.Table = oneOf(r, int64(0), 100, 4096, 65536)
	set.Push = oneOf(r, int64(0), 1, 1, 1)
	set.Streams = oneOf(r, int64(0), 1, 2, 5, top)
	set.Window = oneOf(r, int64(0), 1, 10, 100, 3000, 65535, 70000, top)
	set.Frame = oneOf(r, int64(16384), 16385, 65536)
	set.List = oneOf(r, int64(1024), top, top)
	return set
}

func newWire(t *testing.T, r *rand.Rand, tried map[string]int) *wire {
	t.Helper()
	w := &wire{t: t, r: r, tried: tried}
	for i := range w.ends {
		c, e := conn.New(i == 0, randomSet(r))
		if e != api.OK {
			t.Fatal(e)
		}
		w.ends[i] = c
	}
	return w
}

// stream is mostly one that lives at an end.
func (w *wire) stream(c *conn.Conn) int64 {
	var live []int64
	for id := range int64(60) {
		if at := c.State(id); at != idle && at != closed {
			live = append(live, id)
		}
	}
	if len(live) == 0 || w.r.Intn(12) == 0 {
		return int64(w.r.Intn(12))
	}
	return oneOf(w.r, live...)
}

func (w *wire) fields() []api.Field {
	l := lists.Of(":method", "GET", ":path", oneOf(w.r, "/", "/a", "/b"))
	if w.r.Intn(8) == 0 { // a block of several frames
		for range 14 {
			l = append(l, api.Field{Name: "x-long", Value: of(api.Frame{}, w.r.Intn(4000)).Data, Never: true})
		}
	}
	return l
}

// sends lets one end send something, mostly.
func (w *wire) sends(i int) {
	c, last := w.ends[i], w.r.Intn(3) == 0
	var text string
	var e api.Errno
	what := ""
	switch n := w.r.Intn(13); {
	case n < 2:
		text, what = c.Control(), "control"
	case n < 4 && i == 0:
		_, text, e = c.Open(w.fields(), last)
		what = "open"
	case n < 5 && i == 1:
		_, text, e = c.Promise(w.stream(c), w.fields())
		what = "promise"
	case n < 7:
		text, e = c.Head(w.stream(c), lists.Of(":status", "200"), last)
		what = "head"
	case n < 11:
		_, text, e = c.Data(w.stream(c), of(api.Frame{}, oneOf(w.r, 0, 1, 9, 300, 20000, 70000)).Data, last)
		what = "data"
	case n < 12:
		e = c.Reset(w.stream(c), w.r.Int63n(14))
		what = "reset"
	default:
		e = c.Settings(randomSet(w.r))
		what = "settings"
	}
	w.pipes[1-i] += text
	if e == api.OK {
		w.tried[fmt.Sprint(i, " ", what)]++
	}
}

// carry lets some of what is on its way come.
func (w *wire) carry(i, n int) {
	n = min(n, len(w.pipes[i]))
	w.ends[i].Recv(w.pipes[i][:n])
	w.pipes[i] = w.pipes[i][n:]
}

// look is P24.5 at this moment.
func (w *wire) look() {
	w.t.Helper()
	for i, c := range w.ends {
		if code, dead := c.Dead(); dead {
			w.t.Fatalf("P21.3: %s conn is dead of %d: %s", end(i == 0), code, shown(c.Log(), i == 0))
		}
		wantCheck(w.t, "P24.5", i == 0, -1, 0, c.Log())
	}
}

// TestLogsOfTwoConns: what two conns sent and got that ask, answer, push, reset and
// change their settings at any time is taken, at each of them.
func TestLogsOfTwoConns(t *testing.T) {
	r := rand.New(rand.NewSource(245))
	tried, kinds := map[string]int{}, map[string]int{}
	for range 500 {
		w := newWire(t, r, tried)
		for range 150 {
			switch i := r.Intn(2); r.Intn(3) {
			case 0:
				w.carry(i, oneOf(r, 1, 9, 30, 200, 5000, 1<<20))
			default:
				w.sends(i)
			}
			if r.Intn(40) == 0 {
				w.look()
			}
		}
		w.look()
		for range 12 { // till nothing is left to say
			for i := range w.ends {
				w.pipes[1-i] += w.ends[i].Control()
				w.carry(1-i, 1<<30)
			}
		}
		w.look()
		for i, c := range w.ends {
			l := c.Log()
			if at, j := modelCheck(l[:min(len(l), 150)], i == 0); at >= 0 {
				t.Fatalf("P24.5: the model refuses %d, %s: %s", at, j.why, shown(l, i == 0))
			}
			if wrong := wrongWith(l, i == 0); wrong != "" {
				t.Fatalf("P24.4: %s: %s", wrong, shown(l, i == 0))
			}
			if mayTurn(l) {
				wantCheck(t, "P24.3", i != 0, -1, 0, turned(l))
				tried["turned"]++
			}
			for _, e := range l {
				kinds[fmt.Sprint(i, e.Sent, e.F.Type)]++
			}
		}
	}
	for _, what := range []string{"0 open", "1 promise", "1 head", "0 data", "1 data", "0 reset", "1 reset", "0 settings", "1 settings", "turned"} {
		if tried[what] < 100 {
			t.Errorf("%s %d times: too few to tell", what, tried[what])
		}
	}
	for i := range 2 {
		for _, sent := range []bool{true, false} {
			for _, kind := range []int{data, headers, reset, settings, update, continuation} {
				if n := kinds[fmt.Sprint(i, sent, kind)]; n < 40 {
					t.Errorf("%s: %d %s, sent %v: too few to tell", end(i == 0), n, typeNames[kind], sent)
				}
			}
		}
	}
}

// play is a client and a server, and what is on its way to each.
type play struct {
	t                  *testing.T
	r                  *rand.Rand
	c                  *client.Client
	s                  *server.Server
	toClient, toServer string
}

func newPlay(t *testing.T, r *rand.Rand) *play {
	t.Helper()
	var pages []api.Page
	var rules []api.Rule
	for i := range 6 {
		path := fmt.Sprint("/", i)
		pages = append(pages, api.Page{Authority: "x", Path: path, Status: 200, Choices: []api.Choice{{Body: of(api.Frame{}, oneOf(r, 0, 3, 900, 20000, 65536)).Data}}})
		rule := api.Rule{Of: api.Target{Authority: "x", Path: path}}
		for k := range 6 {
			if r.Intn(3) == 0 {
				rule.Push = append(rule.Push, api.Target{Authority: "x", Path: fmt.Sprint("/", k)})
			}
		}
		rules = append(rules, rule)
	}
	host, e := server.New(randomSet(r), pages, rules)
	if e != api.OK {
		t.Fatal(e)
	}
	conf := api.Conf{Entries: oneOf(r, int64(0), 2, 64), Bytes: oneOf(r, int64(100), 1<<20), Life: oneOf(r, int64(1), 10), Pending: oneOf(r, int64(0), 1, 5, 64)}
	user, e := client.New(randomSet(r), conf, []string{oneOf(r, "https://x", "https://x", "https://x", "https://y")})
	if e != api.OK {
		t.Fatal(e)
	}
	return &play{t: t, r: r, c: user, s: host}
}

// cut is a piece of what is on its way, and the rest.
func (p *play) cut(text string) (string, string) {
	at := oneOf(p.r, p.r.Intn(len(text)+1), len(text), len(text))
	return text[:at], text[at:]
}

func (p *play) move() {
	p.t.Helper()
	switch n := p.r.Intn(24); {
	case n < 3:
		q := api.Request{Method: oneOf(p.r, "GET", "GET", "GET", "HEAD", "POST"), Scheme: "https", Authority: "x", Path: fmt.Sprint("/", p.r.Intn(7))}
		if q.Method == "POST" {
			q.Body = of(api.Frame{}, oneOf(p.r, 0, 3000, 65536)).Data
		}
		p.c.Ask(q)
	case n < 4:
		p.c.Cancel(1 + p.r.Intn(6))
	case n < 5:
		p.c.Tick(p.c.Now() + p.r.Int63n(3))
	case n < 6 && p.r.Intn(3) == 0:
		p.c.Settings(randomSet(p.r))
	case n < 7 && p.r.Intn(3) == 0:
		p.s.Settings(randomSet(p.r))
	case n < 12:
		p.toServer += p.c.Step(p.r.Intn(5))
	case n < 18:
		p.toClient += p.s.Step(p.r.Intn(5))
	case n < 21:
		var piece string
		piece, p.toServer = p.cut(p.toServer)
		p.s.Recv(piece)
	default:
		var piece string
		piece, p.toClient = p.cut(p.toClient)
		p.c.Recv(piece)
	}
}

// TestLogsOfClientAndServer: they are taken at every moment.
func TestLogsOfClientAndServer(t *testing.T) {
	r := rand.New(rand.NewSource(246))
	kinds := map[string]int{}
	for range 250 {
		p := newPlay(t, r)
		for range 200 {
			p.move()
			if r.Intn(30) == 0 {
				wantCheck(t, "P24.5", true, -1, 0, p.c.Trace())
				wantCheck(t, "P24.5", false, -1, 0, p.s.Trace())
			}
		}
		for i, l := range [][]api.Entry{p.c.Trace(), p.s.Trace()} {
			wantCheck(t, "P24.5", i == 0, -1, 0, l)
			if wrong := wrongWith(l, i == 0); wrong != "" {
				t.Fatalf("P24.4: %s: %s", wrong, shown(l, i == 0))
			}
			for _, e := range l {
				kinds[fmt.Sprint(i, e.Sent, e.F.Type)]++
			}
		}
		if code, dead := p.c.Dead(); dead {
			t.Fatalf("the client is dead of %d", code)
		}
		if code, dead := p.s.Dead(); dead {
			t.Fatalf("the server is dead of %d", code)
		}
	}
	for _, what := range []string{"0 true 0", "0 false 0", "0 true 1", "0 false 1", "0 true 3", "0 false 5", "0 true 4", "0 true 8", "0 false 8", "1 true 0", "1 true 1", "1 true 5", "1 false 3", "1 true 8", "1 false 8"} {
		if kinds[what] < 100 {
			t.Errorf("%s %d times: too few to tell", what, kinds[what])
		}
	}
}

// TestOneTalk: a whole one, frame by frame: a request with a body, answered and pushed
// to under small windows that are given back.
func TestOneTalk(t *testing.T) {
	set := setting.Default()
	set.Window = 40
	near, _ := conn.New(true, set)
	far, _ := conn.New(false, set)
	met := func() {
		for range 4 {
			far.Recv(near.Control())
			near.Recv(far.Control())
		}
	}
	met()
	id, text, _ := near.Open(lists.Of(":method", "POST"), false)
	far.Recv(text)
	send := func(from, to *conn.Conn, id int64, n int) {
		for n > 0 {
			sent, text, e := from.Data(id, of(api.Frame{}, n).Data, true)
			if e != api.OK {
				t.Fatalf("Data: %d", e)
			}
			n -= sent
			to.Recv(text)
			met()
		}
	}
	send(near, far, id, 100)
	promised, text, _ := far.Promise(id, lists.Of(":path", "/b"))
	near.Recv(text)
	for _, stream := range []int64{id, promised} {
		text, _ = far.Head(stream, lists.Of(":status", "200"), false)
		near.Recv(text)
		send(far, near, stream, 300)
	}
	for i, c := range []*conn.Conn{near, far} {
		l := c.Log()
		if n := (past{l, i == 0}).count(true, func(f api.Frame) bool { return f.Type == data }); n < 3 {
			t.Fatalf("%d DATA were sent", n)
		}
		wantTaken(t, i == 0, l...)
	}
}
