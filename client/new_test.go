package client_test

import (
	"fmt"
	"strings"
	"testing"

	"herald/api"
	"herald/client"
)

// tryNew holds New against the model and against what is wanted.
func tryNew(t *testing.T, set api.Set, conf api.Conf, origins []string, want api.Errno) {
	t.Helper()
	c, e := client.New(set, conf, origins)
	_, modelE := newModel(set, conf, origins)
	if e != want || modelE != want || (c == nil) != (want != 0) {
		t.Errorf("P23.1: New(%v, %v, %q): %d, want %d (the model: %d)", set, conf, origins, e, want, modelE)
	}
}

// someOrigins are so many.
func someOrigins(n int) []string {
	var all []string
	for i := range n {
		all = append(all, fmt.Sprint("https://h", i))
	}
	return all
}

// TestNewOfSets: a set that doesn't fit is told ahead of all else.
func TestNewOfSets(t *testing.T) {
	for _, set := range []api.Set{
		{}, {Table: 4096, Push: 2, Streams: 1, Window: 1, Frame: 16384, List: top},
		{Table: 65537, Frame: 16384, List: top}, {Frame: 16383, List: top}, {Frame: 65537, List: top}, {Window: top + 1, Frame: 16384, List: top}, {Streams: -1, Frame: 16384, List: top},
	} {
		tryNew(t, set, usual(), []string{"https://x"}, argError)
		tryNew(t, set, usual(), []string{"no origin"}, argError)
		tryNew(t, set, api.Conf{Entries: -1}, nil, argError)
	}
	for _, set := range []api.Set{standard(), {Frame: 16384, List: 65536}, {Table: 65536, Push: 1, Streams: top, Window: top, Frame: 65536, List: top}} {
		tryNew(t, set, usual(), []string{"https://x"}, 0)
	}
}

// TestNewOfConfs: all four of its numbers have their bounds.
func TestNewOfConfs(t *testing.T) {
	bounds := []struct {
		most int64
		put  func(c *api.Conf, n int64)
	}{
		{mostEntries, func(c *api.Conf, n int64) { c.Entries = n }},
		{lastTick, func(c *api.Conf, n int64) { c.Bytes = n }},
		{lastTick, func(c *api.Conf, n int64) { c.Life = n }},
		{mostPending, func(c *api.Conf, n int64) { c.Pending = n }},
	}
	for i, x := range bounds {
		for _, n := range []int64{0, 1, x.most - 1, x.most} {
			conf := usual()
			x.put(&conf, n)
			tryNew(t, standard(), conf, []string{"https://x"}, 0)
		}
		for _, n := range []int64{least, -1, x.most + 1, greatest} {
			conf := usual()
			x.put(&conf, n)
			for _, origins := range [][]string{nil, {"https://x"}, {"none"}, {"https://x", "https://x"}, someOrigins(17)} {
				tryNew(t, standard(), conf, origins, argError)
			}
			if i < 3 {
				conf.Pending = -1
				tryNew(t, standard(), conf, nil, argError)
			}
		}
	}
	tryNew(t, standard(), api.Conf{}, nil, 0)
	tryNew(t, standard(), api.Conf{Entries: 64, Bytes: lastTick, Life: lastTick, Pending: 64}, nil, 0)
}

// TestNewOfOrigins: none, twice, too many, in this order.
func TestNewOfOrigins(t *testing.T) {
	for _, text := range []string{"", "x", "https://", "https:/x", "ftp://x", "https://x/", "https://u@x", "https://x:0", "https://x:65536", "https://-x", "https://x y", "://x", "https://x:", "https://" + strings.Repeat("a", 64)} {
		tryNew(t, standard(), usual(), []string{text}, originError)
		tryNew(t, standard(), usual(), []string{"https://x", text}, originError)
		tryNew(t, standard(), usual(), []string{"https://x", "https://x", text}, originError)
		tryNew(t, standard(), usual(), append(someOrigins(17), text), originError)
	}
	for _, text := range []string{"https://x", "https://x:443", "HTTPS://X", "https://X:443"} {
		tryNew(t, standard(), usual(), []string{"https://x", text}, twiceError)
		tryNew(t, standard(), usual(), append(append(someOrigins(16), "https://x"), text), twiceError)
	}
	tryNew(t, standard(), usual(), someOrigins(16), 0)
	tryNew(t, standard(), usual(), someOrigins(17), fullError)
	tryNew(t, standard(), usual(), []string{"https://x", "http://x", "https://x:444", "https://y"}, 0)
	tryNew(t, standard(), usual(), []string{}, 0)
}

// TestNewLooks: at tick 0, with nothing but the preface and SETTINGS.
func TestNewLooks(t *testing.T) {
	set := standard()
	set.Push, set.Window = 0, 77
	b := newBoth(t, set, api.Conf{}, "https://x")
	b.wantCounts(0, 0, 0)
	b.wantHeld(0, 0)
	b.wantAnswers()
	if now := b.c.Now(); now != 0 {
		t.Errorf("P23.1: Now() = %d", now)
	}
	if theirs := b.c.Theirs(); theirs != standard() {
		t.Errorf("P23.1: Theirs() = %v", theirs)
	}
	b.wantBusy()
	b.wantStep(0, settled())
	b.wantIdle()
	b.whole()
	if trace := b.c.Trace(); len(trace) != 1 || !trace[0].Sent || len(trace[0].F.Params) != 2 {
		t.Errorf("P23.1: Trace() = %v", trace)
	}
}
