package pair_test

import (
	"fmt"
	"strings"
	"testing"

	"herald/api"
	"herald/pair"
)

// wrong is a world that isn't right, and its error.
type wrong struct {
	name   string
	e      api.Errno
	change func(*api.World)
}

// wrongServers are wrong by what the server is given, wrongClients by what the
// client is; each list in the order in which the errors are looked for.
func wrongServers() []wrong {
	return []wrong{
		{"server's Table", 1, func(w *api.World) { w.Server.Table = 65537 }},
		{"server's Push", 1, func(w *api.World) { w.Server.Push = 2 }},
		{"server's Streams", 1, func(w *api.World) { w.Server.Streams = -1 }},
		{"server's Window", 1, func(w *api.World) { w.Server.Window = top + 1 }},
		{"server's Frame", 1, func(w *api.World) { w.Server.Frame = 16383 }},
		{"server's List", 1, func(w *api.World) { w.Server.List = 1023 }},
		{"a wrong page", 170, func(w *api.World) { w.Pages[1].Path = "b" }},
		{"too many pages", 6, func(w *api.World) {
			for i := range 63 {
				w.Pages = append(w.Pages, page(fmt.Sprint("/p", i), ""))
			}
		}},
		{"a page twice", 7, func(w *api.World) { w.Pages = append(w.Pages, page("/a", "again")) }},
		{"too many targets", 3, func(w *api.World) {
			for i := range 8 {
				w.Rules[0].Push = append(w.Rules[0].Push, target(fmt.Sprint("/p", i)))
			}
		}},
		{"a wrong target", 180, func(w *api.World) { w.Rules[0].Push[0].Authority = "" }},
		{"a rule twice", 7, func(w *api.World) { w.Rules = append(w.Rules, rule("/a")) }},
	}
}

func wrongClients() []wrong {
	return []wrong{
		{"client's Table", 1, func(w *api.World) { w.Client.Table = -1 }},
		{"client's Push", 1, func(w *api.World) { w.Client.Push = -1 }},
		{"client's Streams", 1, func(w *api.World) { w.Client.Streams = top + 1 }},
		{"client's Window", 1, func(w *api.World) { w.Client.Window = -1 }},
		{"client's Frame", 1, func(w *api.World) { w.Client.Frame = 65537 }},
		{"client's List", 1, func(w *api.World) { w.Client.List = top + 1 }},
		{"Entries", 1, func(w *api.World) { w.Conf.Entries = 65 }},
		{"Bytes", 1, func(w *api.World) { w.Conf.Bytes = -1 }},
		{"Life", 1, func(w *api.World) { w.Conf.Life = 1<<60 + 1 }},
		{"Pending", 1, func(w *api.World) { w.Conf.Pending = 65 }},
		{"no origin", 150, func(w *api.World) { w.Origins = append(w.Origins, "x") }},
		{"an origin twice", 7, func(w *api.World) { w.Origins = append(w.Origins, "HTTPS://X:443") }},
		{"too many origins", 6, func(w *api.World) {
			for i := range 16 {
				w.Origins = append(w.Origins, fmt.Sprint("https://o", i))
			}
		}},
	}
}

func wantRefusedWorld(t *testing.T, name string, w api.World, want api.Errno) {
	t.Helper()
	if _, e := newModel(w); e != want {
		t.Errorf("%s: the ends answer %d, want %d", name, e, want)
	}
	if p, e := pair.New(w); p != nil || e != want {
		t.Errorf("P25.1: New of a world with %s: %v, %d, want %d", name, p, e, want)
	}
}

// TestWrongWorlds: one for each reason.
func TestWrongWorlds(t *testing.T) {
	for _, x := range append(wrongServers(), wrongClients()...) {
		wantRefusedWorld(t, x.name, worldWith(x.change), x.e)
	}
}

// TestServersErrorFirst: where both ends refuse the world, the server's error is
// told, whichever it is; and of each end's the first that it names.
func TestServersErrorFirst(t *testing.T) {
	for _, s := range wrongServers() {
		for _, c := range wrongClients() {
			wantRefusedWorld(t, s.name+" and "+c.name, worldWith(func(w *api.World) {
				c.change(w)
				s.change(w)
			}), s.e)
		}
	}
	for _, l := range [][]wrong{wrongServers(), wrongClients()} {
		for i := range l {
			for k := i + 1; k < len(l); k++ {
				w := worldWith(l[k].change)
				l[i].change(&w)
				_, want := newModel(w)
				if p, e := pair.New(w); p != nil || e != want {
					t.Errorf("P25.1: New of a world with %s and %s: %d, want %d", l[i].name, l[k].name, e, want)
				}
			}
		}
	}
}

// TestRightWorlds: the least and the greatest that there are, and the empty one.
func TestRightWorlds(t *testing.T) {
	least := api.World{Server: api.Set{Frame: 16384, List: 1024}, Client: api.Set{Frame: 16384, List: 1024}}
	b := newBoth(t, least)
	b.all(ask(get("/a")))
	b.rounds(5)
	b.wantPipes(0, 0)
	b.wantStill(false) // the request waits: the server takes no stream
	b.wantAnswers()
	most := api.Set{Table: 65536, Push: 1, Streams: top, Window: top, Frame: 65536, List: top}
	w := api.World{Server: most, Client: most, Conf: api.Conf{Entries: 64, Bytes: 1 << 60, Life: 1 << 60, Pending: 64}}
	for i := range 64 {
		w.Pages = append(w.Pages, page(fmt.Sprint("/", i), strings.Repeat("b", i*1000)))
		w.Rules = append(w.Rules, rule(fmt.Sprint("/", i), fmt.Sprint("/", (i+1)%64)))
	}
	for i := range 16 {
		w.Origins = append(w.Origins, fmt.Sprint("https://o", i))
	}
	w.Origins[9] = "https://x"
	b = newBoth(t, w)
	b.all(ask(get("/60")))
	b.rounds(60)
	b.wantStill(true)
	b.wantAnswers(answer(1, false, 1, strings.Repeat("b", 60000)))
	if b.last.Held != 8 {
		t.Errorf("T10: %d are kept", b.last.Held)
	}
}
