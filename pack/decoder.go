package pack

import (
	"herald/api"
	"herald/pint"
	"herald/table"
	"herald/text"
)

const mostChanges = 2 // of the max, in one block

// Decoder reads header blocks.
type Decoder struct {
	table  *table.Table
	limit  int64
	broken bool
}

// NewDecoder is one whose table has a max of 4096, and may have no greater one.
func NewDecoder() *Decoder { return &Decoder{table: newTable(), limit: firstMax} }

// SetMax says how great a max the table may be given, from the next block on.
func (d *Decoder) SetMax(n int64) { d.limit = within(n, api.MaxTable) }

// Decode is the fields of the next block.
func (d *Decoder) Decode(block string, most int64) (l []api.Field, e api.Errno) {
	if d.broken {
		return nil, api.ErrBlock
	}
	defer func() {
		if recover() != nil {
			d.broken = true
			l, e = nil, api.ErrBlock
		}
	}()
	r := reader{table: d.table, limit: d.limit, rest: block, most: most}
	r.read()
	if r.size > most {
		return nil, api.ErrList
	}
	return r.list, api.OK
}

// Table is a copy of the table.
func (d *Decoder) Table() *table.Table { return d.table.Copy() }

// reader goes through one block.
type reader struct {
	table *table.Table
	limit int64
	rest  string // what is not read yet
	list  []api.Field
	size  int64 // of all fields, those left out of the list too
	most  int64
}

// must breaks the block off where something doesn't hold: Decode catches it.
func must(holds bool) {
	if !holds {
		panic(api.ErrBlock)
	}
}

// read takes changes of the max at the block's beginning alone, so that one of
// those behind them, the third or one behind a field, stands where a field must.
func (r *reader) read() {
	must(r.table.Max() <= r.limit || formOf(r.rest) == resized)
	for range mostChanges {
		if formOf(r.rest) == resized {
			r.change()
		}
	}
	for r.rest != "" {
		r.keep(r.field())
	}
}

func (r *reader) change() {
	max := r.number(resized)
	must(max <= r.limit)
	r.table.Resize(max)
}

func (r *reader) field() api.Field {
	form := formOf(r.rest)
	must(form != resized)
	i := r.number(form)
	if form == indexed {
		return r.entry(i)
	}
	f := api.Field{Name: r.name(i), Never: form == never}
	f.Value = r.text()
	if form == added {
		r.table.Add(f.Name, f.Value)
	}
	return f
}

func (r *reader) entry(i int64) api.Field {
	name, value, e := r.table.At(int(i))
	must(e == api.OK)
	return api.Field{Name: name, Value: value}
}

func (r *reader) name(i int64) string {
	if i == 0 {
		return r.text()
	}
	return r.entry(i).Name
}

func (r *reader) number(form int) int64 {
	v, n, e := pint.Take(forms[form].prefix, r.rest)
	must(e == api.OK)
	r.rest = r.rest[n:]
	return v
}

func (r *reader) text() string {
	s, n, e := text.Take(r.rest, api.MaxString)
	must(e == api.OK)
	r.rest = r.rest[n:]
	return s
}

// keep leaves a field out once the list is too long: a short block may tell far
// more than there is memory for.
func (r *reader) keep(f api.Field) {
	r.size += size(f)
	if r.size <= r.most {
		r.list = append(r.list, f)
	}
}
